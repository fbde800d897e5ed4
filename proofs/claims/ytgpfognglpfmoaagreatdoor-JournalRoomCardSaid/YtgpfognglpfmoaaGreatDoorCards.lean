/-
  DERIVED. GIVEN WITH THE SEED: THE CARDS: each row of YtgpfognglpfmoaaGreatDoorRows.lean that lists a variable, with what it lists TIED to the program's text (the seventh form; the later family's looks); each row that meets fmt, with fmt's text TOLD by the authors' own Lean function (tested against real Go, not proved from fmt's source: count such statements apart). THE CARD IS WHAT COUNTS. Prove the row's statement (the work); the ties are given (YtgpfognglpfmoaaGreatDoorTie.lean); close each card by the builder's one call (the guide's Derived/Test/ToyasCard.lean, 'card_holds'). Laid BY PROGRAM, IN A SANDBOX (cutbox-door.mjs). By AI agents, Wed Nov 11 2026. No macro, syntax, notation, axiom, sorry.
-/
import Derived.Test.YtgpfognglpfmoaaGreatDoorRows
import GoSem.ClaimSeven
namespace Go.Proofs.YtgpfognglpfmoaaGreatDoor
namespace Rows

/-- THE TIED CARD OF 'headwaterlaw09.JournalNames'. -/
def journalNamesCard : Claim7 := { stood := { row := journalNamesRow, standIns := [], harness := (true, "c1654a1fc542c4f2792e638990229ec613b4df112c0a74b954e088d8af8bd70e"), looks := false }, kinds := [], alts := [], laidByText := true, laidKinds := [.sentinel], laidTests := true, laidLooks := .later }
def JournalNamesCardSaid : Prop := Claim7.holds Tryz.pinned (.plain (OpenSpec.ofChange journalNamesSpec)) journalNamesCard

/-- THE TIED CARD OF 'headwaterlaw09.JournalScript'. -/
def journalScriptCard : Claim7 := { stood := { row := journalScriptRow, standIns := [], harness := (true, "c1654a1fc542c4f2792e638990229ec613b4df112c0a74b954e088d8af8bd70e"), looks := false }, kinds := [], alts := [], laidByText := true, laidKinds := [.sentinel], laidTests := true, laidLooks := .later }
def JournalScriptCardSaid : Prop := Claim7.holds Tryz.pinned (.plain (OpenSpec.ofChange journalScriptSpec)) journalScriptCard

/-- THE TIED CARD OF 'headwaterlaw09.JournalNil'. -/
def journalNilCard : Claim7 := { stood := { row := journalNilRow, standIns := [], harness := (true, "c1654a1fc542c4f2792e638990229ec613b4df112c0a74b954e088d8af8bd70e"), looks := false }, kinds := [], alts := [], laidByText := true, laidKinds := [.sentinel], laidTests := true, laidLooks := .later }
def JournalNilCardSaid : Prop := Claim7.holds Tryz.pinned (.plain (OpenSpec.ofChange journalNilSpec)) journalNilCard

/-- THE TIED CARD OF 'headwaterlaw09.JournalRoom'. -/
def journalRoomCard : Claim7 := { stood := { row := journalRoomRow, standIns := [], harness := (true, "c1654a1fc542c4f2792e638990229ec613b4df112c0a74b954e088d8af8bd70e"), looks := false }, kinds := [], alts := [], laidByText := true, laidKinds := [.sentinel], laidTests := true, laidLooks := .later }
def JournalRoomCardSaid : Prop := Claim7.holds Tryz.pinned (.plain (OpenSpec.ofChange journalRoomSpec)) journalRoomCard

/-- THE SECOND FORM's CARD OF 'headwaterlaw09.JournalNames'. -/
def journalNamesUptoCard : Claim7 := { stood := { row := journalNamesUptoRow, standIns := [], harness := (true, "c1654a1fc542c4f2792e638990229ec613b4df112c0a74b954e088d8af8bd70e"), looks := false }, kinds := [], alts := [], laidByText := true, laidKinds := [.sentinel], laidTests := true, laidLooks := .later }
def JournalNamesUptoCardSaid : Prop := Claim7.holds Tryz.pinned (.plain (OpenSpec.upto journalNamesSpec)) journalNamesUptoCard

/-- THE SECOND FORM's CARD OF 'headwaterlaw09.JournalScript'. -/
def journalScriptUptoCard : Claim7 := { stood := { row := journalScriptUptoRow, standIns := [], harness := (true, "c1654a1fc542c4f2792e638990229ec613b4df112c0a74b954e088d8af8bd70e"), looks := false }, kinds := [], alts := [], laidByText := true, laidKinds := [.sentinel], laidTests := true, laidLooks := .later }
def JournalScriptUptoCardSaid : Prop := Claim7.holds Tryz.pinned (.plain (OpenSpec.upto journalScriptSpec)) journalScriptUptoCard

/-- THE SECOND FORM's CARD OF 'headwaterlaw09.JournalNil'. -/
def journalNilUptoCard : Claim7 := { stood := { row := journalNilUptoRow, standIns := [], harness := (true, "c1654a1fc542c4f2792e638990229ec613b4df112c0a74b954e088d8af8bd70e"), looks := false }, kinds := [], alts := [], laidByText := true, laidKinds := [.sentinel], laidTests := true, laidLooks := .later }
def JournalNilUptoCardSaid : Prop := Claim7.holds Tryz.pinned (.plain (OpenSpec.upto journalNilSpec)) journalNilUptoCard

/-- THE SECOND FORM's CARD OF 'headwaterlaw09.JournalRoom'. -/
def journalRoomUptoCard : Claim7 := { stood := { row := journalRoomUptoRow, standIns := [], harness := (true, "c1654a1fc542c4f2792e638990229ec613b4df112c0a74b954e088d8af8bd70e"), looks := false }, kinds := [], alts := [], laidByText := true, laidKinds := [.sentinel], laidTests := true, laidLooks := .later }
def JournalRoomUptoCardSaid : Prop := Claim7.holds Tryz.pinned (.plain (OpenSpec.upto journalRoomSpec)) journalRoomUptoCard
end Rows
end Go.Proofs.YtgpfognglpfmoaaGreatDoor
