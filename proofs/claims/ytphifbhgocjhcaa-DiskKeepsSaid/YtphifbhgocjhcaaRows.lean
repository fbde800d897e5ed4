/-
  No cell of these rows narrows 'for every input' (looked for: loops, veiled, ifaces, maps, wideKeys, modest, calm, conditions, laid).
  DERIVED. THE GIVEN ROWS OF THIS SEAT. 5 by the template 'for every input the law returns true; each argument reads behind the call as it read before'; 0 by the template 'total and deterministic' (their statements: YtphifbhgocjhcaaTotals.lean).
  GIVEN WITH THE SEED: the statements are not yours to turn. If you find one false, say at which input.
  Laid BY PROGRAM, IN A SANDBOX (cutbox-rows.mjs): the forced cells as the released guide's own fill.sh prints them over the translation ae0389941c19ad35… (all of the seat's roots in one cut). By AI agents, Wed Nov 11 2026. No macro, syntax, notation, axiom, sorry.
-/
import Derived.Test.YtphifbhgocjhcaaChecked
import GoSem.Claim
import GoSem.ClaimJoined
import GoSem.ClaimMapViews
import Derived.JoinedTies
import Derived.KernelRfl
namespace Go.Proofs.Ytphifbhgocjhcaa
/- THE CELL 'sum', in the pinned program and in every row, IS THE sha256 OF THE DUMP (.gsa) THAT YtphifbhgocjhcaaProg.lean LOADS. Nothing in Lean hashes anything: it is a label: what it is worth is what the hold of that sum in a sandbox is worth. -/
noncomputable def Try.pinned : Pinned := { name := "ytphifbhgocjhcaa", sum := "ae0389941c19ad353f1a4362135f7341ebe260464d28a762e75b8d657416a0f1", checked := Try.checked }
namespace Rows
def none {H : Type} : Left H := { results := [], args := [] }

/-- 'headwaterlaw07.DiskNames': WHATEVER THE INPUT: true; the input reads as it did. -/
def diskNamesSpec : ChangeSpec := { name := "diskNames", fn := fun _ => fun
  | [] => { results := [.lit (.bool true)], args := [] }
  | _ => none }
def diskNamesRow : OpenClaim := { program := "ytphifbhgocjhcaa", sum := "ae0389941c19ad353f1a4362135f7341ebe260464d28a762e75b8d657416a0f1", func := "headwater/headwaterlaw07.DiskNames", spec := "diskNames", inPlace := ["maps.clone"], unfollowed := true, recurses := true, apart := false }
def DiskNamesSaid : Prop := diskNamesRow.holds Try.pinned (OpenSpec.ofChange diskNamesSpec)

/-- ITS FALSE NEIGHBOUR: 'it returns false'. Refute it at one input. -/
def diskNamesWrong : ChangeSpec := { name := "diskNames", fn := fun _ => fun
  | [] => { results := [.lit (.bool false)], args := [] }
  | _ => none }
def DiskNamesWrongFalsely : Prop := diskNamesRow.holds Try.pinned (OpenSpec.ofChange diskNamesWrong)

/-- 'headwaterlaw07.DiskScript': WHATEVER THE INPUT: true; the input reads as it did. -/
def diskScriptSpec : ChangeSpec := { name := "diskScript", fn := fun _ => fun
  | [d1, d2] => { results := [.lit (.bool true)], args := [d1, d2] }
  | _ => none }
def diskScriptRow : OpenClaim := { program := "ytphifbhgocjhcaa", sum := "ae0389941c19ad353f1a4362135f7341ebe260464d28a762e75b8d657416a0f1", func := "headwater/headwaterlaw07.DiskScript", spec := "diskScript", inPlace := ["maps.clone"], unfollowed := true, recurses := true, apart := false }
def DiskScriptSaid : Prop := diskScriptRow.holds Try.pinned (OpenSpec.ofChange diskScriptSpec)

/-- ITS FALSE NEIGHBOUR: 'it returns false'. Refute it at one input. -/
def diskScriptWrong : ChangeSpec := { name := "diskScript", fn := fun _ => fun
  | [d1, d2] => { results := [.lit (.bool false)], args := [d1, d2] }
  | _ => none }
def DiskScriptWrongFalsely : Prop := diskScriptRow.holds Try.pinned (OpenSpec.ofChange diskScriptWrong)

/-- 'headwaterlaw07.DiskNil': WHATEVER THE INPUT: true; the input reads as it did. -/
def diskNilSpec : ChangeSpec := { name := "diskNil", fn := fun _ => fun
  | [d] => { results := [.lit (.bool true)], args := [d] }
  | _ => none }
def diskNilRow : OpenClaim := { program := "ytphifbhgocjhcaa", sum := "ae0389941c19ad353f1a4362135f7341ebe260464d28a762e75b8d657416a0f1", func := "headwater/headwaterlaw07.DiskNil", spec := "diskNil", inPlace := ["maps.clone"], unfollowed := true, recurses := true, apart := false }
def DiskNilSaid : Prop := diskNilRow.holds Try.pinned (OpenSpec.ofChange diskNilSpec)

/-- ITS FALSE NEIGHBOUR: 'it returns false'. Refute it at one input. -/
def diskNilWrong : ChangeSpec := { name := "diskNil", fn := fun _ => fun
  | [d] => { results := [.lit (.bool false)], args := [d] }
  | _ => none }
def DiskNilWrongFalsely : Prop := diskNilRow.holds Try.pinned (OpenSpec.ofChange diskNilWrong)

/-- 'headwaterlaw07.DiskKeeps': WHATEVER THE INPUT: true; the input reads as it did. -/
def diskKeepsSpec : ChangeSpec := { name := "diskKeeps", fn := fun _ => fun
  | [d1, d2] => { results := [.lit (.bool true)], args := [d1, d2] }
  | _ => none }
def diskKeepsRow : OpenClaim := { program := "ytphifbhgocjhcaa", sum := "ae0389941c19ad353f1a4362135f7341ebe260464d28a762e75b8d657416a0f1", func := "headwater/headwaterlaw07.DiskKeeps", spec := "diskKeeps", inPlace := ["maps.clone"], unfollowed := true, recurses := true, apart := false }
def DiskKeepsSaid : Prop := diskKeepsRow.holds Try.pinned (OpenSpec.ofChange diskKeepsSpec)

/-- ITS FALSE NEIGHBOUR: 'it returns false'. Refute it at one input. -/
def diskKeepsWrong : ChangeSpec := { name := "diskKeeps", fn := fun _ => fun
  | [d1, d2] => { results := [.lit (.bool false)], args := [d1, d2] }
  | _ => none }
def DiskKeepsWrongFalsely : Prop := diskKeepsRow.holds Try.pinned (OpenSpec.ofChange diskKeepsWrong)

/-- 'headwaterlaw07.DiskClones': WHATEVER THE INPUT: true; the input reads as it did. -/
def diskClonesSpec : ChangeSpec := { name := "diskClones", fn := fun _ => fun
  | [d1, d2, d3] => { results := [.lit (.bool true)], args := [d1, d2, d3] }
  | _ => none }
def diskClonesRow : OpenClaim := { program := "ytphifbhgocjhcaa", sum := "ae0389941c19ad353f1a4362135f7341ebe260464d28a762e75b8d657416a0f1", func := "headwater/headwaterlaw07.DiskClones", spec := "diskClones", inPlace := ["maps.clone"], unfollowed := true, recurses := true, apart := false }
def DiskClonesSaid : Prop := diskClonesRow.holds Try.pinned (OpenSpec.ofChange diskClonesSpec)

/-- ITS FALSE NEIGHBOUR: 'it returns false'. Refute it at one input. -/
def diskClonesWrong : ChangeSpec := { name := "diskClones", fn := fun _ => fun
  | [d1, d2, d3] => { results := [.lit (.bool false)], args := [d1, d2, d3] }
  | _ => none }
def DiskClonesWrongFalsely : Prop := diskClonesRow.holds Try.pinned (OpenSpec.ofChange diskClonesWrong)

/- THE SECOND FORM. 'bulk': how many values and letters a reading holds, each counted each time it is reached (what is shared counts as often as it is met; a slice's spare places count too). A statement '..UptoSaid' is the law's where the arguments, and the package variables that the reading takes, are together of bulk at most 1048576: NARROWER than '..Said'. Prove '..Said' where nothing that the law and all that it calls make is longer than what came in: it says more and counts as full. Else prove '..UptoSaid'. A law counts once. -/
mutual
def uptoBulk {H : Type} : DataW H → Nat
  | .lit (.string bytes) => bytes.length + 1
  | .lit _ => 1
  | .nil => 1
  | .ptr d => uptoBulk d + 1
  | .slice elems spare => uptoBulkAll elems + uptoBulkAll spare + 1
  | .agg parts => uptoBulkAll parts + 1
  | .iface _ d => uptoBulk d + 1
  | .map entries => uptoBulkEntries entries + 1
  | .held _ => 1
def uptoBulkAll {H : Type} : List (DataW H) → Nat
  | [] => 0
  | d :: r => uptoBulk d + uptoBulkAll r
def uptoBulkEntries {H : Type} : List (Lit × DataW H) → Nat
  | [] => 0
  | x :: r => uptoBulkEntry x + uptoBulkEntries r
def uptoBulkEntry {H : Type} : Lit × DataW H → Nat
  | (.string bytes, d) => bytes.length + uptoBulk d + 1
  | (_, d) => uptoBulk d + 1
 end
def uptoSmall : (H : Type) → List (DataW H) → Bool := fun _ ds => decide (uptoBulkAll ds ≤ 1048576)
def OpenSpec.upto (s : _root_.Go.ChangeSpec) : _root_.Go.OpenSpec := { _root_.Go.OpenSpec.ofChange s with cond := some uptoSmall }

/-- 'headwaterlaw07.DiskNames', WHERE WHAT IT READS IS OF BULK AT MOST 1048576: true; the input reads as it did. -/
def diskNamesUptoRow : OpenClaim := { program := "ytphifbhgocjhcaa", sum := "ae0389941c19ad353f1a4362135f7341ebe260464d28a762e75b8d657416a0f1", func := "headwater/headwaterlaw07.DiskNames", spec := "diskNames", inPlace := ["maps.clone"], unfollowed := true, recurses := true, apart := false, narrowed := true }
def DiskNamesUptoSaid : Prop := diskNamesUptoRow.holds Try.pinned (OpenSpec.upto diskNamesSpec)

/-- 'headwaterlaw07.DiskScript', WHERE WHAT IT READS IS OF BULK AT MOST 1048576: true; the input reads as it did. -/
def diskScriptUptoRow : OpenClaim := { program := "ytphifbhgocjhcaa", sum := "ae0389941c19ad353f1a4362135f7341ebe260464d28a762e75b8d657416a0f1", func := "headwater/headwaterlaw07.DiskScript", spec := "diskScript", inPlace := ["maps.clone"], unfollowed := true, recurses := true, apart := false, narrowed := true }
def DiskScriptUptoSaid : Prop := diskScriptUptoRow.holds Try.pinned (OpenSpec.upto diskScriptSpec)

/-- 'headwaterlaw07.DiskNil', WHERE WHAT IT READS IS OF BULK AT MOST 1048576: true; the input reads as it did. -/
def diskNilUptoRow : OpenClaim := { program := "ytphifbhgocjhcaa", sum := "ae0389941c19ad353f1a4362135f7341ebe260464d28a762e75b8d657416a0f1", func := "headwater/headwaterlaw07.DiskNil", spec := "diskNil", inPlace := ["maps.clone"], unfollowed := true, recurses := true, apart := false, narrowed := true }
def DiskNilUptoSaid : Prop := diskNilUptoRow.holds Try.pinned (OpenSpec.upto diskNilSpec)

/-- 'headwaterlaw07.DiskKeeps', WHERE WHAT IT READS IS OF BULK AT MOST 1048576: true; the input reads as it did. -/
def diskKeepsUptoRow : OpenClaim := { program := "ytphifbhgocjhcaa", sum := "ae0389941c19ad353f1a4362135f7341ebe260464d28a762e75b8d657416a0f1", func := "headwater/headwaterlaw07.DiskKeeps", spec := "diskKeeps", inPlace := ["maps.clone"], unfollowed := true, recurses := true, apart := false, narrowed := true }
def DiskKeepsUptoSaid : Prop := diskKeepsUptoRow.holds Try.pinned (OpenSpec.upto diskKeepsSpec)

/-- 'headwaterlaw07.DiskClones', WHERE WHAT IT READS IS OF BULK AT MOST 1048576: true; the input reads as it did. -/
def diskClonesUptoRow : OpenClaim := { program := "ytphifbhgocjhcaa", sum := "ae0389941c19ad353f1a4362135f7341ebe260464d28a762e75b8d657416a0f1", func := "headwater/headwaterlaw07.DiskClones", spec := "diskClones", inPlace := ["maps.clone"], unfollowed := true, recurses := true, apart := false, narrowed := true }
def DiskClonesUptoSaid : Prop := diskClonesUptoRow.holds Try.pinned (OpenSpec.upto diskClonesSpec)

end Rows
end Go.Proofs.Ytphifbhgocjhcaa
