/-
  NARROWER THAN 'FOR EVERY INPUT', by the rows' own cells (each row's printed sentence says how): JournalNames: laid · JournalScript: laid · JournalNil: laid · JournalRoom: laid.
  DERIVED. THE GIVEN ROWS OF THIS SEAT. 4 by the template 'for every input the law returns true; each argument reads behind the call as it read before'; 0 by the template 'total and deterministic' (their statements: YtgpfognglpfmoaaGreatDoorTotals.lean).
  GIVEN WITH THE SEED: the statements are not yours to turn. If you find one false, say at which input.
  Laid BY PROGRAM, IN A SANDBOX (cutbox-rows.mjs): the forced cells as the released guide's own fill.sh prints them over the translation 603ade7f0e74544f… (all of the seat's roots in one cut). By AI agents, Wed Nov 11 2026. No macro, syntax, notation, axiom, sorry.
-/
import Derived.Test.YtgpfognglpfmoaaGreatDoorChecked
import GoSem.Claim
import GoSem.ClaimJoined
import GoSem.ClaimMapViews
import Derived.JoinedTies
import Derived.KernelRfl
namespace Go.Proofs.YtgpfognglpfmoaaGreatDoor
/- THE CELL 'sum', in the pinned program and in every row, IS THE sha256 OF THE DUMP (.gsa) THAT YtgpfognglpfmoaaGreatDoorProg.lean LOADS. Nothing in Lean hashes anything: it is a label: what it is worth is what the hold of that sum in a sandbox is worth. -/
noncomputable def Tryz.pinned : Pinned := { name := "ytgpfognglpfmoaagreatdoor", sum := "603ade7f0e74544fb71f6183bdff69540c39ca4fd48616273cc47e98edfcc052", checked := Tryz.checked }
namespace Rows
def none {H : Type} : Left H := { results := [], args := [] }

/- WHAT THE LISTED PACKAGE-LEVEL VARIABLES READ AS WHEN THE CALL BEGINS. Each datum BY PROGRAM (the guide's laid-datum.mjs) off the statement by which the dump's own 'gosem.cut.vars' lays the variable. In a bare row this is a premise. The card (YtgpfognglpfmoaaGreatDoorCards.lean) ties it to the program's text. -/
def laid_bytes_ErrTooLarge {H : Type} : DataW H := .iface "*errors.errorString" (.ptr (.agg [.lit (.string [98, 121, 116, 101, 115, 46, 66, 117, 102, 102, 101, 114, 58, 32, 116, 111, 111, 32, 108, 97, 114, 103, 101])]))

/-- 'headwaterlaw09.JournalNames': WHATEVER THE INPUT: true; the input reads as it did. -/
def journalNamesSpec : ChangeSpec := { name := "journalNames", fn := fun _ => fun
  | [] => { results := [.lit (.bool true)], args := [] }
  | _ => none }
def journalNamesRow : OpenClaim := { program := "ytgpfognglpfmoaagreatdoor", sum := "603ade7f0e74544fb71f6183bdff69540c39ca4fd48616273cc47e98edfcc052", func := "headwater/headwaterlaw09.JournalNames", spec := "journalNames", unfollowed := true, recurses := true, named := ["bytes.ErrTooLarge"], apart := false, laid := [("bytes.ErrTooLarge", laid_bytes_ErrTooLarge)] }
def JournalNamesSaid : Prop := journalNamesRow.holds Tryz.pinned (OpenSpec.ofChange journalNamesSpec)

/-- ITS FALSE NEIGHBOUR: 'it returns false'. Refute it at one input. -/
def journalNamesWrong : ChangeSpec := { name := "journalNames", fn := fun _ => fun
  | [] => { results := [.lit (.bool false)], args := [] }
  | _ => none }
def JournalNamesWrongFalsely : Prop := journalNamesRow.holds Tryz.pinned (OpenSpec.ofChange journalNamesWrong)

/-- 'headwaterlaw09.JournalScript': WHATEVER THE INPUT: true; the input reads as it did. -/
def journalScriptSpec : ChangeSpec := { name := "journalScript", fn := fun _ => fun
  | [d1, d2] => { results := [.lit (.bool true)], args := [d1, d2] }
  | _ => none }
def journalScriptRow : OpenClaim := { program := "ytgpfognglpfmoaagreatdoor", sum := "603ade7f0e74544fb71f6183bdff69540c39ca4fd48616273cc47e98edfcc052", func := "headwater/headwaterlaw09.JournalScript", spec := "journalScript", unfollowed := true, recurses := true, named := ["bytes.ErrTooLarge"], apart := false, laid := [("bytes.ErrTooLarge", laid_bytes_ErrTooLarge)] }
def JournalScriptSaid : Prop := journalScriptRow.holds Tryz.pinned (OpenSpec.ofChange journalScriptSpec)

/-- ITS FALSE NEIGHBOUR: 'it returns false'. Refute it at one input. -/
def journalScriptWrong : ChangeSpec := { name := "journalScript", fn := fun _ => fun
  | [d1, d2] => { results := [.lit (.bool false)], args := [d1, d2] }
  | _ => none }
def JournalScriptWrongFalsely : Prop := journalScriptRow.holds Tryz.pinned (OpenSpec.ofChange journalScriptWrong)

/-- 'headwaterlaw09.JournalNil': WHATEVER THE INPUT: true; the input reads as it did. -/
def journalNilSpec : ChangeSpec := { name := "journalNil", fn := fun _ => fun
  | [d] => { results := [.lit (.bool true)], args := [d] }
  | _ => none }
def journalNilRow : OpenClaim := { program := "ytgpfognglpfmoaagreatdoor", sum := "603ade7f0e74544fb71f6183bdff69540c39ca4fd48616273cc47e98edfcc052", func := "headwater/headwaterlaw09.JournalNil", spec := "journalNil", unfollowed := true, recurses := true, named := ["bytes.ErrTooLarge"], apart := false, laid := [("bytes.ErrTooLarge", laid_bytes_ErrTooLarge)] }
def JournalNilSaid : Prop := journalNilRow.holds Tryz.pinned (OpenSpec.ofChange journalNilSpec)

/-- ITS FALSE NEIGHBOUR: 'it returns false'. Refute it at one input. -/
def journalNilWrong : ChangeSpec := { name := "journalNil", fn := fun _ => fun
  | [d] => { results := [.lit (.bool false)], args := [d] }
  | _ => none }
def JournalNilWrongFalsely : Prop := journalNilRow.holds Tryz.pinned (OpenSpec.ofChange journalNilWrong)

/-- 'headwaterlaw09.JournalRoom': WHATEVER THE INPUT: true; the input reads as it did. -/
def journalRoomSpec : ChangeSpec := { name := "journalRoom", fn := fun _ => fun
  | [d1, d2, d3] => { results := [.lit (.bool true)], args := [d1, d2, d3] }
  | _ => none }
def journalRoomRow : OpenClaim := { program := "ytgpfognglpfmoaagreatdoor", sum := "603ade7f0e74544fb71f6183bdff69540c39ca4fd48616273cc47e98edfcc052", func := "headwater/headwaterlaw09.JournalRoom", spec := "journalRoom", unfollowed := true, recurses := true, named := ["bytes.ErrTooLarge"], apart := false, laid := [("bytes.ErrTooLarge", laid_bytes_ErrTooLarge)] }
def JournalRoomSaid : Prop := journalRoomRow.holds Tryz.pinned (OpenSpec.ofChange journalRoomSpec)

/-- ITS FALSE NEIGHBOUR: 'it returns false'. Refute it at one input. -/
def journalRoomWrong : ChangeSpec := { name := "journalRoom", fn := fun _ => fun
  | [d1, d2, d3] => { results := [.lit (.bool false)], args := [d1, d2, d3] }
  | _ => none }
def JournalRoomWrongFalsely : Prop := journalRoomRow.holds Tryz.pinned (OpenSpec.ofChange journalRoomWrong)

/- THE SECOND FORM. 'bulk': how many values and letters a reading holds, each counted each time it is reached (what is shared counts as often as it is met; a slice's spare places count too). A statement '..UptoSaid' is the law's where the arguments, and the package variables that the reading takes, are together of bulk at most 1048576: NARROWER than '..Said'. Prove '..Said' where nothing that the law and all that it calls make is longer than what came in: it says more and counts as full. Else prove '..UptoSaid'. A law counts once. -/
mutual
def uptoBulk {H : Type} : DataW H → Nat
  | .lit (.string bytes) => bytes.length + 1
  | .lit _ => 1
  | .nil => 1
  | .ptr d => uptoBulk d + 1
  | .slice elems spare => uptoBulkAll elems + uptoBulkAll spare + 1
  | .agg parts => uptoBulkAll parts + 1
  | .iface _ d => uptoBulk d + 1
  | .map entries => uptoBulkEntries entries + 1
  | .held _ => 1
def uptoBulkAll {H : Type} : List (DataW H) → Nat
  | [] => 0
  | d :: r => uptoBulk d + uptoBulkAll r
def uptoBulkEntries {H : Type} : List (Lit × DataW H) → Nat
  | [] => 0
  | x :: r => uptoBulkEntry x + uptoBulkEntries r
def uptoBulkEntry {H : Type} : Lit × DataW H → Nat
  | (.string bytes, d) => bytes.length + uptoBulk d + 1
  | (_, d) => uptoBulk d + 1
 end
def uptoSmall : (H : Type) → List (DataW H) → Bool := fun _ ds => decide (uptoBulkAll ds ≤ 1048576)
def OpenSpec.upto (s : _root_.Go.ChangeSpec) : _root_.Go.OpenSpec := { _root_.Go.OpenSpec.ofChange s with cond := some uptoSmall }

/-- 'headwaterlaw09.JournalNames', WHERE WHAT IT READS IS OF BULK AT MOST 1048576: true; the input reads as it did. -/
def journalNamesUptoRow : OpenClaim := { program := "ytgpfognglpfmoaagreatdoor", sum := "603ade7f0e74544fb71f6183bdff69540c39ca4fd48616273cc47e98edfcc052", func := "headwater/headwaterlaw09.JournalNames", spec := "journalNames", unfollowed := true, recurses := true, named := ["bytes.ErrTooLarge"], apart := false, laid := [("bytes.ErrTooLarge", laid_bytes_ErrTooLarge)], narrowed := true }
def JournalNamesUptoSaid : Prop := journalNamesUptoRow.holds Tryz.pinned (OpenSpec.upto journalNamesSpec)

/-- 'headwaterlaw09.JournalScript', WHERE WHAT IT READS IS OF BULK AT MOST 1048576: true; the input reads as it did. -/
def journalScriptUptoRow : OpenClaim := { program := "ytgpfognglpfmoaagreatdoor", sum := "603ade7f0e74544fb71f6183bdff69540c39ca4fd48616273cc47e98edfcc052", func := "headwater/headwaterlaw09.JournalScript", spec := "journalScript", unfollowed := true, recurses := true, named := ["bytes.ErrTooLarge"], apart := false, laid := [("bytes.ErrTooLarge", laid_bytes_ErrTooLarge)], narrowed := true }
def JournalScriptUptoSaid : Prop := journalScriptUptoRow.holds Tryz.pinned (OpenSpec.upto journalScriptSpec)

/-- 'headwaterlaw09.JournalNil', WHERE WHAT IT READS IS OF BULK AT MOST 1048576: true; the input reads as it did. -/
def journalNilUptoRow : OpenClaim := { program := "ytgpfognglpfmoaagreatdoor", sum := "603ade7f0e74544fb71f6183bdff69540c39ca4fd48616273cc47e98edfcc052", func := "headwater/headwaterlaw09.JournalNil", spec := "journalNil", unfollowed := true, recurses := true, named := ["bytes.ErrTooLarge"], apart := false, laid := [("bytes.ErrTooLarge", laid_bytes_ErrTooLarge)], narrowed := true }
def JournalNilUptoSaid : Prop := journalNilUptoRow.holds Tryz.pinned (OpenSpec.upto journalNilSpec)

/-- 'headwaterlaw09.JournalRoom', WHERE WHAT IT READS IS OF BULK AT MOST 1048576: true; the input reads as it did. -/
def journalRoomUptoRow : OpenClaim := { program := "ytgpfognglpfmoaagreatdoor", sum := "603ade7f0e74544fb71f6183bdff69540c39ca4fd48616273cc47e98edfcc052", func := "headwater/headwaterlaw09.JournalRoom", spec := "journalRoom", unfollowed := true, recurses := true, named := ["bytes.ErrTooLarge"], apart := false, laid := [("bytes.ErrTooLarge", laid_bytes_ErrTooLarge)], narrowed := true }
def JournalRoomUptoSaid : Prop := journalRoomUptoRow.holds Tryz.pinned (OpenSpec.upto journalRoomSpec)

end Rows
end Go.Proofs.YtgpfognglpfmoaaGreatDoor
