/-
  No cell of these rows narrows 'for every input' (looked for: loops, veiled, ifaces, maps, wideKeys, modest, calm, conditions, laid).
  DERIVED. THE GIVEN ROWS OF THIS SEAT. 3 by the template 'for every input the law returns true; each argument reads behind the call as it read before'; 0 by the template 'total and deterministic' (their statements: YtgpgolegedfjfaaTotals.lean).
  GIVEN WITH THE SEED: the statements are not yours to turn. If you find one false, say at which input.
  Laid BY PROGRAM, IN A SANDBOX (cutbox-rows.mjs): the forced cells as the released guide's own fill.sh prints them over the translation 89c93c818cf0bc2e… (all of the seat's roots in one cut). By AI agents, Wed Nov 11 2026. No macro, syntax, notation, axiom, sorry.
-/
import Derived.Test.YtgpgolegedfjfaaChecked
import GoSem.Claim
import GoSem.ClaimJoined
import GoSem.ClaimMapViews
import Derived.JoinedTies
import Derived.KernelRfl
namespace Go.Proofs.Ytgpgolegedfjfaa
/- THE CELL 'sum', in the pinned program and in every row, IS THE sha256 OF THE DUMP (.gsa) THAT YtgpgolegedfjfaaProg.lean LOADS. Nothing in Lean hashes anything: it is a label: what it is worth is what the hold of that sum in a sandbox is worth. -/
noncomputable def Try.pinned : Pinned := { name := "ytgpgolegedfjfaa", sum := "89c93c818cf0bc2eaa7bb74c200fc98f20d709ac97978b9c91f126a95b2e8459", checked := Try.checked }
namespace Rows
def none {H : Type} : Left H := { results := [], args := [] }

/-- 'headwaterlaw02.ShaRoots': WHATEVER THE INPUT: true; the input reads as it did. -/
def shaRootsSpec : ChangeSpec := { name := "shaRoots", fn := fun _ => fun
  | [d] => { results := [.lit (.bool true)], args := [d] }
  | _ => none }
def shaRootsRow : OpenClaim := { program := "ytgpgolegedfjfaa", sum := "89c93c818cf0bc2eaa7bb74c200fc98f20d709ac97978b9c91f126a95b2e8459", func := "headwater/headwaterlaw02.ShaRoots", spec := "shaRoots", inPlace := ["math/bits.Add64"], apart := false }
def ShaRootsSaid : Prop := shaRootsRow.holds Try.pinned (OpenSpec.ofChange shaRootsSpec)

/-- ITS FALSE NEIGHBOUR: 'it returns false'. Refute it at one input. -/
def shaRootsWrong : ChangeSpec := { name := "shaRoots", fn := fun _ => fun
  | [d] => { results := [.lit (.bool false)], args := [d] }
  | _ => none }
def ShaRootsWrongFalsely : Prop := shaRootsRow.holds Try.pinned (OpenSpec.ofChange shaRootsWrong)

/-- 'headwaterlaw02.ShaParts': WHATEVER THE INPUT: true; the input reads as it did. -/
def shaPartsSpec : ChangeSpec := { name := "shaParts", fn := fun _ => fun
  | [d1, d2, d3] => { results := [.lit (.bool true)], args := [d1, d2, d3] }
  | _ => none }
def shaPartsRow : OpenClaim := { program := "ytgpgolegedfjfaa", sum := "89c93c818cf0bc2eaa7bb74c200fc98f20d709ac97978b9c91f126a95b2e8459", func := "headwater/headwaterlaw02.ShaParts", spec := "shaParts", inPlace := ["math/bits.Add64"], apart := false }
def ShaPartsSaid : Prop := shaPartsRow.holds Try.pinned (OpenSpec.ofChange shaPartsSpec)

/-- ITS FALSE NEIGHBOUR: 'it returns false'. Refute it at one input. -/
def shaPartsWrong : ChangeSpec := { name := "shaParts", fn := fun _ => fun
  | [d1, d2, d3] => { results := [.lit (.bool false)], args := [d1, d2, d3] }
  | _ => none }
def ShaPartsWrongFalsely : Prop := shaPartsRow.holds Try.pinned (OpenSpec.ofChange shaPartsWrong)

/-- 'headwaterlaw02.ShaPads': WHATEVER THE INPUT: true; the input reads as it did. -/
def shaPadsSpec : ChangeSpec := { name := "shaPads", fn := fun _ => fun
  | [d1, d2] => { results := [.lit (.bool true)], args := [d1, d2] }
  | _ => none }
def shaPadsRow : OpenClaim := { program := "ytgpgolegedfjfaa", sum := "89c93c818cf0bc2eaa7bb74c200fc98f20d709ac97978b9c91f126a95b2e8459", func := "headwater/headwaterlaw02.ShaPads", spec := "shaPads", inPlace := ["math/bits.Add64"], apart := false }
def ShaPadsSaid : Prop := shaPadsRow.holds Try.pinned (OpenSpec.ofChange shaPadsSpec)

/-- ITS FALSE NEIGHBOUR: 'it returns false'. Refute it at one input. -/
def shaPadsWrong : ChangeSpec := { name := "shaPads", fn := fun _ => fun
  | [d1, d2] => { results := [.lit (.bool false)], args := [d1, d2] }
  | _ => none }
def ShaPadsWrongFalsely : Prop := shaPadsRow.holds Try.pinned (OpenSpec.ofChange shaPadsWrong)

/- THE SECOND FORM. 'bulk': how many values and letters a reading holds, each counted each time it is reached (what is shared counts as often as it is met; a slice's spare places count too). A statement '..UptoSaid' is the law's where the arguments, and the package variables that the reading takes, are together of bulk at most 1048576: NARROWER than '..Said'. Prove '..Said' where nothing that the law and all that it calls make is longer than what came in: it says more and counts as full. Else prove '..UptoSaid'. A law counts once. -/
mutual
def uptoBulk {H : Type} : DataW H → Nat
  | .lit (.string bytes) => bytes.length + 1
  | .lit _ => 1
  | .nil => 1
  | .ptr d => uptoBulk d + 1
  | .slice elems spare => uptoBulkAll elems + uptoBulkAll spare + 1
  | .agg parts => uptoBulkAll parts + 1
  | .iface _ d => uptoBulk d + 1
  | .map entries => uptoBulkEntries entries + 1
  | .held _ => 1
def uptoBulkAll {H : Type} : List (DataW H) → Nat
  | [] => 0
  | d :: r => uptoBulk d + uptoBulkAll r
def uptoBulkEntries {H : Type} : List (Lit × DataW H) → Nat
  | [] => 0
  | x :: r => uptoBulkEntry x + uptoBulkEntries r
def uptoBulkEntry {H : Type} : Lit × DataW H → Nat
  | (.string bytes, d) => bytes.length + uptoBulk d + 1
  | (_, d) => uptoBulk d + 1
 end
def uptoSmall : (H : Type) → List (DataW H) → Bool := fun _ ds => decide (uptoBulkAll ds ≤ 1048576)
def OpenSpec.upto (s : _root_.Go.ChangeSpec) : _root_.Go.OpenSpec := { _root_.Go.OpenSpec.ofChange s with cond := some uptoSmall }

/-- 'headwaterlaw02.ShaRoots', WHERE WHAT IT READS IS OF BULK AT MOST 1048576: true; the input reads as it did. -/
def shaRootsUptoRow : OpenClaim := { program := "ytgpgolegedfjfaa", sum := "89c93c818cf0bc2eaa7bb74c200fc98f20d709ac97978b9c91f126a95b2e8459", func := "headwater/headwaterlaw02.ShaRoots", spec := "shaRoots", inPlace := ["math/bits.Add64"], apart := false, narrowed := true }
def ShaRootsUptoSaid : Prop := shaRootsUptoRow.holds Try.pinned (OpenSpec.upto shaRootsSpec)

/-- 'headwaterlaw02.ShaParts', WHERE WHAT IT READS IS OF BULK AT MOST 1048576: true; the input reads as it did. -/
def shaPartsUptoRow : OpenClaim := { program := "ytgpgolegedfjfaa", sum := "89c93c818cf0bc2eaa7bb74c200fc98f20d709ac97978b9c91f126a95b2e8459", func := "headwater/headwaterlaw02.ShaParts", spec := "shaParts", inPlace := ["math/bits.Add64"], apart := false, narrowed := true }
def ShaPartsUptoSaid : Prop := shaPartsUptoRow.holds Try.pinned (OpenSpec.upto shaPartsSpec)

/-- 'headwaterlaw02.ShaPads', WHERE WHAT IT READS IS OF BULK AT MOST 1048576: true; the input reads as it did. -/
def shaPadsUptoRow : OpenClaim := { program := "ytgpgolegedfjfaa", sum := "89c93c818cf0bc2eaa7bb74c200fc98f20d709ac97978b9c91f126a95b2e8459", func := "headwater/headwaterlaw02.ShaPads", spec := "shaPads", inPlace := ["math/bits.Add64"], apart := false, narrowed := true }
def ShaPadsUptoSaid : Prop := shaPadsUptoRow.holds Try.pinned (OpenSpec.upto shaPadsSpec)

end Rows
end Go.Proofs.Ytgpgolegedfjfaa
