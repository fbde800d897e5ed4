/-
  No cell of these rows narrows 'for every input' (looked for: loops, veiled, ifaces, maps, wideKeys, modest, calm, conditions, laid).
  DERIVED. THE GIVEN ROWS OF THIS SEAT. 4 by the template 'for every input the law returns true; each argument reads behind the call as it read before'; 0 by the template 'total and deterministic' (their statements: YtjaoaikcmbfnmaaTotals.lean).
  GIVEN WITH THE SEED: the statements are not yours to turn. If you find one false, say at which input.
  Laid BY PROGRAM, IN A SANDBOX (cutbox-rows.mjs): the forced cells as the released guide's own fill.sh prints them over the translation 849999d08bf51b06… (all of the seat's roots in one cut). By AI agents, Wed Nov 11 2026. No macro, syntax, notation, axiom, sorry.
-/
import Derived.Test.YtjaoaikcmbfnmaaChecked
import GoSem.Claim
import GoSem.ClaimJoined
import GoSem.ClaimMapViews
import Derived.JoinedTies
import Derived.KernelRfl
namespace Go.Proofs.Ytjaoaikcmbfnmaa
/- THE CELL 'sum', in the pinned program and in every row, IS THE sha256 OF THE DUMP (.gsa) THAT YtjaoaikcmbfnmaaProg.lean LOADS. Nothing in Lean hashes anything: it is a label: what it is worth is what the hold of that sum in a sandbox is worth. -/
noncomputable def Try.pinned : Pinned := { name := "ytjaoaikcmbfnmaa", sum := "849999d08bf51b0633292b44b1148b44dc143c96a992c5e35f01f8ee857be7f0", checked := Try.checked }
namespace Rows
def none {H : Type} : Left H := { results := [], args := [] }

/-- 'headwaterlaw08.RecordNames': WHATEVER THE INPUT: true; the input reads as it did. -/
def recordNamesSpec : ChangeSpec := { name := "recordNames", fn := fun _ => fun
  | [] => { results := [.lit (.bool true)], args := [] }
  | _ => none }
def recordNamesRow : OpenClaim := { program := "ytjaoaikcmbfnmaa", sum := "849999d08bf51b0633292b44b1148b44dc143c96a992c5e35f01f8ee857be7f0", func := "headwater/headwaterlaw08.RecordNames", spec := "recordNames", apart := false }
def RecordNamesSaid : Prop := recordNamesRow.holds Try.pinned (OpenSpec.ofChange recordNamesSpec)

/-- ITS FALSE NEIGHBOUR: 'it returns false'. Refute it at one input. -/
def recordNamesWrong : ChangeSpec := { name := "recordNames", fn := fun _ => fun
  | [] => { results := [.lit (.bool false)], args := [] }
  | _ => none }
def RecordNamesWrongFalsely : Prop := recordNamesRow.holds Try.pinned (OpenSpec.ofChange recordNamesWrong)

/-- 'headwaterlaw08.RecordBack': WHATEVER THE INPUT: true; the input reads as it did. -/
def recordBackSpec : ChangeSpec := { name := "recordBack", fn := fun _ => fun
  | [d1, d2, d3] => { results := [.lit (.bool true)], args := [d1, d2, d3] }
  | _ => none }
def recordBackRow : OpenClaim := { program := "ytjaoaikcmbfnmaa", sum := "849999d08bf51b0633292b44b1148b44dc143c96a992c5e35f01f8ee857be7f0", func := "headwater/headwaterlaw08.RecordBack", spec := "recordBack", unfollowed := true, recurses := true, apart := false }
def RecordBackSaid : Prop := recordBackRow.holds Try.pinned (OpenSpec.ofChange recordBackSpec)

/-- ITS FALSE NEIGHBOUR: 'it returns false'. Refute it at one input. -/
def recordBackWrong : ChangeSpec := { name := "recordBack", fn := fun _ => fun
  | [d1, d2, d3] => { results := [.lit (.bool false)], args := [d1, d2, d3] }
  | _ => none }
def RecordBackWrongFalsely : Prop := recordBackRow.holds Try.pinned (OpenSpec.ofChange recordBackWrong)

/-- 'headwaterlaw08.RecordBound': WHATEVER THE INPUT: true; the input reads as it did. -/
def recordBoundSpec : ChangeSpec := { name := "recordBound", fn := fun _ => fun
  | [d1, d2, d3, d4, d5] => { results := [.lit (.bool true)], args := [d1, d2, d3, d4, d5] }
  | _ => none }
def recordBoundRow : OpenClaim := { program := "ytjaoaikcmbfnmaa", sum := "849999d08bf51b0633292b44b1148b44dc143c96a992c5e35f01f8ee857be7f0", func := "headwater/headwaterlaw08.RecordBound", spec := "recordBound", apart := false }
def RecordBoundSaid : Prop := recordBoundRow.holds Try.pinned (OpenSpec.ofChange recordBoundSpec)

/-- ITS FALSE NEIGHBOUR: 'it returns false'. Refute it at one input. -/
def recordBoundWrong : ChangeSpec := { name := "recordBound", fn := fun _ => fun
  | [d1, d2, d3, d4, d5] => { results := [.lit (.bool false)], args := [d1, d2, d3, d4, d5] }
  | _ => none }
def RecordBoundWrongFalsely : Prop := recordBoundRow.holds Try.pinned (OpenSpec.ofChange recordBoundWrong)

/-- 'headwaterlaw08.RecordParts': WHATEVER THE INPUT: true; the input reads as it did. -/
def recordPartsSpec : ChangeSpec := { name := "recordParts", fn := fun _ => fun
  | [d1, d2, d3] => { results := [.lit (.bool true)], args := [d1, d2, d3] }
  | _ => none }
def recordPartsRow : OpenClaim := { program := "ytjaoaikcmbfnmaa", sum := "849999d08bf51b0633292b44b1148b44dc143c96a992c5e35f01f8ee857be7f0", func := "headwater/headwaterlaw08.RecordParts", spec := "recordParts", unfollowed := true, recurses := true, apart := false }
def RecordPartsSaid : Prop := recordPartsRow.holds Try.pinned (OpenSpec.ofChange recordPartsSpec)

/-- ITS FALSE NEIGHBOUR: 'it returns false'. Refute it at one input. -/
def recordPartsWrong : ChangeSpec := { name := "recordParts", fn := fun _ => fun
  | [d1, d2, d3] => { results := [.lit (.bool false)], args := [d1, d2, d3] }
  | _ => none }
def RecordPartsWrongFalsely : Prop := recordPartsRow.holds Try.pinned (OpenSpec.ofChange recordPartsWrong)

/- THE SECOND FORM. 'bulk': how many values and letters a reading holds, each counted each time it is reached (what is shared counts as often as it is met; a slice's spare places count too). A statement '..UptoSaid' is the law's where the arguments, and the package variables that the reading takes, are together of bulk at most 1048576: NARROWER than '..Said'. Prove '..Said' where nothing that the law and all that it calls make is longer than what came in: it says more and counts as full. Else prove '..UptoSaid'. A law counts once. -/
mutual
def uptoBulk {H : Type} : DataW H → Nat
  | .lit (.string bytes) => bytes.length + 1
  | .lit _ => 1
  | .nil => 1
  | .ptr d => uptoBulk d + 1
  | .slice elems spare => uptoBulkAll elems + uptoBulkAll spare + 1
  | .agg parts => uptoBulkAll parts + 1
  | .iface _ d => uptoBulk d + 1
  | .map entries => uptoBulkEntries entries + 1
  | .held _ => 1
def uptoBulkAll {H : Type} : List (DataW H) → Nat
  | [] => 0
  | d :: r => uptoBulk d + uptoBulkAll r
def uptoBulkEntries {H : Type} : List (Lit × DataW H) → Nat
  | [] => 0
  | x :: r => uptoBulkEntry x + uptoBulkEntries r
def uptoBulkEntry {H : Type} : Lit × DataW H → Nat
  | (.string bytes, d) => bytes.length + uptoBulk d + 1
  | (_, d) => uptoBulk d + 1
 end
def uptoSmall : (H : Type) → List (DataW H) → Bool := fun _ ds => decide (uptoBulkAll ds ≤ 1048576)
def OpenSpec.upto (s : _root_.Go.ChangeSpec) : _root_.Go.OpenSpec := { _root_.Go.OpenSpec.ofChange s with cond := some uptoSmall }

/-- 'headwaterlaw08.RecordNames', WHERE WHAT IT READS IS OF BULK AT MOST 1048576: true; the input reads as it did. -/
def recordNamesUptoRow : OpenClaim := { program := "ytjaoaikcmbfnmaa", sum := "849999d08bf51b0633292b44b1148b44dc143c96a992c5e35f01f8ee857be7f0", func := "headwater/headwaterlaw08.RecordNames", spec := "recordNames", apart := false, narrowed := true }
def RecordNamesUptoSaid : Prop := recordNamesUptoRow.holds Try.pinned (OpenSpec.upto recordNamesSpec)

/-- 'headwaterlaw08.RecordBack', WHERE WHAT IT READS IS OF BULK AT MOST 1048576: true; the input reads as it did. -/
def recordBackUptoRow : OpenClaim := { program := "ytjaoaikcmbfnmaa", sum := "849999d08bf51b0633292b44b1148b44dc143c96a992c5e35f01f8ee857be7f0", func := "headwater/headwaterlaw08.RecordBack", spec := "recordBack", unfollowed := true, recurses := true, apart := false, narrowed := true }
def RecordBackUptoSaid : Prop := recordBackUptoRow.holds Try.pinned (OpenSpec.upto recordBackSpec)

/-- 'headwaterlaw08.RecordBound', WHERE WHAT IT READS IS OF BULK AT MOST 1048576: true; the input reads as it did. -/
def recordBoundUptoRow : OpenClaim := { program := "ytjaoaikcmbfnmaa", sum := "849999d08bf51b0633292b44b1148b44dc143c96a992c5e35f01f8ee857be7f0", func := "headwater/headwaterlaw08.RecordBound", spec := "recordBound", apart := false, narrowed := true }
def RecordBoundUptoSaid : Prop := recordBoundUptoRow.holds Try.pinned (OpenSpec.upto recordBoundSpec)

/-- 'headwaterlaw08.RecordParts', WHERE WHAT IT READS IS OF BULK AT MOST 1048576: true; the input reads as it did. -/
def recordPartsUptoRow : OpenClaim := { program := "ytjaoaikcmbfnmaa", sum := "849999d08bf51b0633292b44b1148b44dc143c96a992c5e35f01f8ee857be7f0", func := "headwater/headwaterlaw08.RecordParts", spec := "recordParts", unfollowed := true, recurses := true, apart := false, narrowed := true }
def RecordPartsUptoSaid : Prop := recordPartsUptoRow.holds Try.pinned (OpenSpec.upto recordPartsSpec)

end Rows
end Go.Proofs.Ytjaoaikcmbfnmaa
