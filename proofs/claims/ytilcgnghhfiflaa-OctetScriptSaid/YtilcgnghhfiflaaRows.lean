/-
  No cell of these rows narrows 'for every input' (looked for: loops, veiled, ifaces, maps, wideKeys, modest, calm, conditions, laid).
  DERIVED. THE GIVEN ROWS OF THIS SEAT. 6 by the template 'for every input the law returns true; each argument reads behind the call as it read before'; 0 by the template 'total and deterministic' (their statements: YtilcgnghhfiflaaTotals.lean).
  GIVEN WITH THE SEED: the statements are not yours to turn. If you find one false, say at which input.
  Laid BY PROGRAM, IN A SANDBOX (cutbox-rows.mjs): the forced cells as the released guide's own fill.sh prints them over the translation f241da97550aa209… (all of the seat's roots in one cut). By AI agents, Wed Nov 11 2026. No macro, syntax, notation, axiom, sorry.
-/
import Derived.Test.YtilcgnghhfiflaaChecked
import GoSem.Claim
import GoSem.ClaimJoined
import GoSem.ClaimMapViews
import Derived.JoinedTies
import Derived.KernelRfl
namespace Go.Proofs.Ytilcgnghhfiflaa
/- THE CELL 'sum', in the pinned program and in every row, IS THE sha256 OF THE DUMP (.gsa) THAT YtilcgnghhfiflaaProg.lean LOADS. Nothing in Lean hashes anything: it is a label: what it is worth is what the hold of that sum in a sandbox is worth. -/
noncomputable def Try.pinned : Pinned := { name := "ytilcgnghhfiflaa", sum := "f241da97550aa20934696aa6114a424b73913f383c3b2bbee976e6dd51311336", checked := Try.checked }
namespace Rows
def none {H : Type} : Left H := { results := [], args := [] }

/-- 'headwaterlaw01.OctetNames': WHATEVER THE INPUT: true; the input reads as it did. -/
def octetNamesSpec : ChangeSpec := { name := "octetNames", fn := fun _ => fun
  | [] => { results := [.lit (.bool true)], args := [] }
  | _ => none }
def octetNamesRow : OpenClaim := { program := "ytilcgnghhfiflaa", sum := "f241da97550aa20934696aa6114a424b73913f383c3b2bbee976e6dd51311336", func := "headwater/headwaterlaw01.OctetNames", spec := "octetNames", apart := false }
def OctetNamesSaid : Prop := octetNamesRow.holds Try.pinned (OpenSpec.ofChange octetNamesSpec)

/-- ITS FALSE NEIGHBOUR: 'it returns false'. Refute it at one input. -/
def octetNamesWrong : ChangeSpec := { name := "octetNames", fn := fun _ => fun
  | [] => { results := [.lit (.bool false)], args := [] }
  | _ => none }
def OctetNamesWrongFalsely : Prop := octetNamesRow.holds Try.pinned (OpenSpec.ofChange octetNamesWrong)

/-- 'headwaterlaw01.OctetCalls': WHATEVER THE INPUT: true; the input reads as it did. -/
def octetCallsSpec : ChangeSpec := { name := "octetCalls", fn := fun _ => fun
  | [d1, d2, d3, d4] => { results := [.lit (.bool true)], args := [d1, d2, d3, d4] }
  | _ => none }
def octetCallsRow : OpenClaim := { program := "ytilcgnghhfiflaa", sum := "f241da97550aa20934696aa6114a424b73913f383c3b2bbee976e6dd51311336", func := "headwater/headwaterlaw01.OctetCalls", spec := "octetCalls", apart := false }
def OctetCallsSaid : Prop := octetCallsRow.holds Try.pinned (OpenSpec.ofChange octetCallsSpec)

/-- ITS FALSE NEIGHBOUR: 'it returns false'. Refute it at one input. -/
def octetCallsWrong : ChangeSpec := { name := "octetCalls", fn := fun _ => fun
  | [d1, d2, d3, d4] => { results := [.lit (.bool false)], args := [d1, d2, d3, d4] }
  | _ => none }
def OctetCallsWrongFalsely : Prop := octetCallsRow.holds Try.pinned (OpenSpec.ofChange octetCallsWrong)

/-- 'headwaterlaw01.OctetScript': WHATEVER THE INPUT: true; the input reads as it did. -/
def octetScriptSpec : ChangeSpec := { name := "octetScript", fn := fun _ => fun
  | [d1, d2] => { results := [.lit (.bool true)], args := [d1, d2] }
  | _ => none }
def octetScriptRow : OpenClaim := { program := "ytilcgnghhfiflaa", sum := "f241da97550aa20934696aa6114a424b73913f383c3b2bbee976e6dd51311336", func := "headwater/headwaterlaw01.OctetScript", spec := "octetScript", apart := false }
def OctetScriptSaid : Prop := octetScriptRow.holds Try.pinned (OpenSpec.ofChange octetScriptSpec)

/-- ITS FALSE NEIGHBOUR: 'it returns false'. Refute it at one input. -/
def octetScriptWrong : ChangeSpec := { name := "octetScript", fn := fun _ => fun
  | [d1, d2] => { results := [.lit (.bool false)], args := [d1, d2] }
  | _ => none }
def OctetScriptWrongFalsely : Prop := octetScriptRow.holds Try.pinned (OpenSpec.ofChange octetScriptWrong)

/-- 'headwaterlaw01.OctetNil': WHATEVER THE INPUT: true; the input reads as it did. -/
def octetNilSpec : ChangeSpec := { name := "octetNil", fn := fun _ => fun
  | [d] => { results := [.lit (.bool true)], args := [d] }
  | _ => none }
def octetNilRow : OpenClaim := { program := "ytilcgnghhfiflaa", sum := "f241da97550aa20934696aa6114a424b73913f383c3b2bbee976e6dd51311336", func := "headwater/headwaterlaw01.OctetNil", spec := "octetNil", apart := false }
def OctetNilSaid : Prop := octetNilRow.holds Try.pinned (OpenSpec.ofChange octetNilSpec)

/-- ITS FALSE NEIGHBOUR: 'it returns false'. Refute it at one input. -/
def octetNilWrong : ChangeSpec := { name := "octetNil", fn := fun _ => fun
  | [d] => { results := [.lit (.bool false)], args := [d] }
  | _ => none }
def OctetNilWrongFalsely : Prop := octetNilRow.holds Try.pinned (OpenSpec.ofChange octetNilWrong)

/-- 'headwaterlaw01.OctetBack': WHATEVER THE INPUT: true; the input reads as it did. -/
def octetBackSpec : ChangeSpec := { name := "octetBack", fn := fun _ => fun
  | [d1, d2, d3, d4, d5, d6] => { results := [.lit (.bool true)], args := [d1, d2, d3, d4, d5, d6] }
  | _ => none }
def octetBackRow : OpenClaim := { program := "ytilcgnghhfiflaa", sum := "f241da97550aa20934696aa6114a424b73913f383c3b2bbee976e6dd51311336", func := "headwater/headwaterlaw01.OctetBack", spec := "octetBack", apart := false }
def OctetBackSaid : Prop := octetBackRow.holds Try.pinned (OpenSpec.ofChange octetBackSpec)

/-- ITS FALSE NEIGHBOUR: 'it returns false'. Refute it at one input. -/
def octetBackWrong : ChangeSpec := { name := "octetBack", fn := fun _ => fun
  | [d1, d2, d3, d4, d5, d6] => { results := [.lit (.bool false)], args := [d1, d2, d3, d4, d5, d6] }
  | _ => none }
def OctetBackWrongFalsely : Prop := octetBackRow.holds Try.pinned (OpenSpec.ofChange octetBackWrong)

/-- 'headwaterlaw01.OctetOrder': WHATEVER THE INPUT: true; the input reads as it did. -/
def octetOrderSpec : ChangeSpec := { name := "octetOrder", fn := fun _ => fun
  | [d1, d2] => { results := [.lit (.bool true)], args := [d1, d2] }
  | _ => none }
def octetOrderRow : OpenClaim := { program := "ytilcgnghhfiflaa", sum := "f241da97550aa20934696aa6114a424b73913f383c3b2bbee976e6dd51311336", func := "headwater/headwaterlaw01.OctetOrder", spec := "octetOrder", apart := false }
def OctetOrderSaid : Prop := octetOrderRow.holds Try.pinned (OpenSpec.ofChange octetOrderSpec)

/-- ITS FALSE NEIGHBOUR: 'it returns false'. Refute it at one input. -/
def octetOrderWrong : ChangeSpec := { name := "octetOrder", fn := fun _ => fun
  | [d1, d2] => { results := [.lit (.bool false)], args := [d1, d2] }
  | _ => none }
def OctetOrderWrongFalsely : Prop := octetOrderRow.holds Try.pinned (OpenSpec.ofChange octetOrderWrong)

/- THE SECOND FORM. 'bulk': how many values and letters a reading holds, each counted each time it is reached (what is shared counts as often as it is met; a slice's spare places count too). A statement '..UptoSaid' is the law's where the arguments, and the package variables that the reading takes, are together of bulk at most 1048576: NARROWER than '..Said'. Prove '..Said' where nothing that the law and all that it calls make is longer than what came in: it says more and counts as full. Else prove '..UptoSaid'. A law counts once. -/
mutual
def uptoBulk {H : Type} : DataW H → Nat
  | .lit (.string bytes) => bytes.length + 1
  | .lit _ => 1
  | .nil => 1
  | .ptr d => uptoBulk d + 1
  | .slice elems spare => uptoBulkAll elems + uptoBulkAll spare + 1
  | .agg parts => uptoBulkAll parts + 1
  | .iface _ d => uptoBulk d + 1
  | .map entries => uptoBulkEntries entries + 1
  | .held _ => 1
def uptoBulkAll {H : Type} : List (DataW H) → Nat
  | [] => 0
  | d :: r => uptoBulk d + uptoBulkAll r
def uptoBulkEntries {H : Type} : List (Lit × DataW H) → Nat
  | [] => 0
  | x :: r => uptoBulkEntry x + uptoBulkEntries r
def uptoBulkEntry {H : Type} : Lit × DataW H → Nat
  | (.string bytes, d) => bytes.length + uptoBulk d + 1
  | (_, d) => uptoBulk d + 1
 end
def uptoSmall : (H : Type) → List (DataW H) → Bool := fun _ ds => decide (uptoBulkAll ds ≤ 1048576)
def OpenSpec.upto (s : _root_.Go.ChangeSpec) : _root_.Go.OpenSpec := { _root_.Go.OpenSpec.ofChange s with cond := some uptoSmall }

/-- 'headwaterlaw01.OctetNames', WHERE WHAT IT READS IS OF BULK AT MOST 1048576: true; the input reads as it did. -/
def octetNamesUptoRow : OpenClaim := { program := "ytilcgnghhfiflaa", sum := "f241da97550aa20934696aa6114a424b73913f383c3b2bbee976e6dd51311336", func := "headwater/headwaterlaw01.OctetNames", spec := "octetNames", apart := false, narrowed := true }
def OctetNamesUptoSaid : Prop := octetNamesUptoRow.holds Try.pinned (OpenSpec.upto octetNamesSpec)

/-- 'headwaterlaw01.OctetCalls', WHERE WHAT IT READS IS OF BULK AT MOST 1048576: true; the input reads as it did. -/
def octetCallsUptoRow : OpenClaim := { program := "ytilcgnghhfiflaa", sum := "f241da97550aa20934696aa6114a424b73913f383c3b2bbee976e6dd51311336", func := "headwater/headwaterlaw01.OctetCalls", spec := "octetCalls", apart := false, narrowed := true }
def OctetCallsUptoSaid : Prop := octetCallsUptoRow.holds Try.pinned (OpenSpec.upto octetCallsSpec)

/-- 'headwaterlaw01.OctetScript', WHERE WHAT IT READS IS OF BULK AT MOST 1048576: true; the input reads as it did. -/
def octetScriptUptoRow : OpenClaim := { program := "ytilcgnghhfiflaa", sum := "f241da97550aa20934696aa6114a424b73913f383c3b2bbee976e6dd51311336", func := "headwater/headwaterlaw01.OctetScript", spec := "octetScript", apart := false, narrowed := true }
def OctetScriptUptoSaid : Prop := octetScriptUptoRow.holds Try.pinned (OpenSpec.upto octetScriptSpec)

/-- 'headwaterlaw01.OctetNil', WHERE WHAT IT READS IS OF BULK AT MOST 1048576: true; the input reads as it did. -/
def octetNilUptoRow : OpenClaim := { program := "ytilcgnghhfiflaa", sum := "f241da97550aa20934696aa6114a424b73913f383c3b2bbee976e6dd51311336", func := "headwater/headwaterlaw01.OctetNil", spec := "octetNil", apart := false, narrowed := true }
def OctetNilUptoSaid : Prop := octetNilUptoRow.holds Try.pinned (OpenSpec.upto octetNilSpec)

/-- 'headwaterlaw01.OctetBack', WHERE WHAT IT READS IS OF BULK AT MOST 1048576: true; the input reads as it did. -/
def octetBackUptoRow : OpenClaim := { program := "ytilcgnghhfiflaa", sum := "f241da97550aa20934696aa6114a424b73913f383c3b2bbee976e6dd51311336", func := "headwater/headwaterlaw01.OctetBack", spec := "octetBack", apart := false, narrowed := true }
def OctetBackUptoSaid : Prop := octetBackUptoRow.holds Try.pinned (OpenSpec.upto octetBackSpec)

/-- 'headwaterlaw01.OctetOrder', WHERE WHAT IT READS IS OF BULK AT MOST 1048576: true; the input reads as it did. -/
def octetOrderUptoRow : OpenClaim := { program := "ytilcgnghhfiflaa", sum := "f241da97550aa20934696aa6114a424b73913f383c3b2bbee976e6dd51311336", func := "headwater/headwaterlaw01.OctetOrder", spec := "octetOrder", apart := false, narrowed := true }
def OctetOrderUptoSaid : Prop := octetOrderUptoRow.holds Try.pinned (OpenSpec.upto octetOrderSpec)

end Rows
end Go.Proofs.Ytilcgnghhfiflaa
