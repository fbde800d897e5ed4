/-
  DERIVED. GIVEN WITH THE SEED: THE CARDS: each row of YtdfihpnmiiaflaaDoorRows.lean that lists a variable, with what it lists TIED to the program's text (the seventh form; the later family's looks); each row that meets fmt, with fmt's text TOLD by the authors' own Lean function (tested against real Go, not proved from fmt's source: count such statements apart). THE CARD IS WHAT COUNTS. Prove the row's statement (the work); the ties are given (YtdfihpnmiiaflaaDoorTie.lean); close each card by the builder's one call (the guide's Derived/Test/ToyasCard.lean, 'card_holds'). Laid BY PROGRAM, IN A SANDBOX (cutbox-door.mjs). By AI agents, Wed Nov 11 2026. No macro, syntax, notation, axiom, sorry.
-/
import Derived.Test.YtdfihpnmiiaflaaDoorRows
import GoSem.ClaimSeven
namespace Go.Proofs.YtdfihpnmiiaflaaDoor
namespace Rows

/-- THE TIED CARD OF 'headwaterlaw10.PagesNames'. -/
def pagesNamesCard : Claim7 := { stood := { row := pagesNamesRow, standIns := [], harness := (true, "0bb906ea9f5dcf2a5a1b67fd75bd542bc0ad3a78795fbfaf86d454dee37251a7"), looks := false }, kinds := [], alts := [], laidByText := true, laidKinds := [.data], laidTests := true, laidLooks := .later }
def PagesNamesCardSaid : Prop := Claim7.holds Tryd.pinned (.plain (OpenSpec.ofChange pagesNamesSpec)) pagesNamesCard

/-- THE TIED CARD OF 'headwaterlaw10.PagesNil'. -/
def pagesNilCard : Claim7 := { stood := { row := pagesNilRow, standIns := [], harness := (true, "0bb906ea9f5dcf2a5a1b67fd75bd542bc0ad3a78795fbfaf86d454dee37251a7"), looks := false }, kinds := [], alts := [], laidByText := true, laidKinds := [.data], laidTests := true, laidLooks := .later }
def PagesNilCardSaid : Prop := Claim7.holds Tryd.pinned (.plain (OpenSpec.ofChange pagesNilSpec)) pagesNilCard

/-- THE TIED CARD OF 'headwaterlaw10.PagesKeeps'. -/
def pagesKeepsCard : Claim7 := { stood := { row := pagesKeepsRow, standIns := [], harness := (true, "0bb906ea9f5dcf2a5a1b67fd75bd542bc0ad3a78795fbfaf86d454dee37251a7"), looks := false }, kinds := [], alts := [], laidByText := true, laidKinds := [.data], laidTests := true, laidLooks := .later }
def PagesKeepsCardSaid : Prop := Claim7.holds Tryd.pinned (.plain (OpenSpec.ofChange pagesKeepsSpec)) pagesKeepsCard

/-- THE TIED CARD OF 'headwaterlaw10.PagesApart'. -/
def pagesApartCard : Claim7 := { stood := { row := pagesApartRow, standIns := [], harness := (true, "0bb906ea9f5dcf2a5a1b67fd75bd542bc0ad3a78795fbfaf86d454dee37251a7"), looks := false }, kinds := [], alts := [], laidByText := true, laidKinds := [.data], laidTests := true, laidLooks := .later }
def PagesApartCardSaid : Prop := Claim7.holds Tryd.pinned (.plain (OpenSpec.ofChange pagesApartSpec)) pagesApartCard

/-- THE SECOND FORM's CARD OF 'headwaterlaw10.PagesNames'. -/
def pagesNamesUptoCard : Claim7 := { stood := { row := pagesNamesUptoRow, standIns := [], harness := (true, "0bb906ea9f5dcf2a5a1b67fd75bd542bc0ad3a78795fbfaf86d454dee37251a7"), looks := false }, kinds := [], alts := [], laidByText := true, laidKinds := [.data], laidTests := true, laidLooks := .later }
def PagesNamesUptoCardSaid : Prop := Claim7.holds Tryd.pinned (.plain (OpenSpec.upto pagesNamesSpec)) pagesNamesUptoCard

/-- THE SECOND FORM's CARD OF 'headwaterlaw10.PagesNil'. -/
def pagesNilUptoCard : Claim7 := { stood := { row := pagesNilUptoRow, standIns := [], harness := (true, "0bb906ea9f5dcf2a5a1b67fd75bd542bc0ad3a78795fbfaf86d454dee37251a7"), looks := false }, kinds := [], alts := [], laidByText := true, laidKinds := [.data], laidTests := true, laidLooks := .later }
def PagesNilUptoCardSaid : Prop := Claim7.holds Tryd.pinned (.plain (OpenSpec.upto pagesNilSpec)) pagesNilUptoCard

/-- THE SECOND FORM's CARD OF 'headwaterlaw10.PagesKeeps'. -/
def pagesKeepsUptoCard : Claim7 := { stood := { row := pagesKeepsUptoRow, standIns := [], harness := (true, "0bb906ea9f5dcf2a5a1b67fd75bd542bc0ad3a78795fbfaf86d454dee37251a7"), looks := false }, kinds := [], alts := [], laidByText := true, laidKinds := [.data], laidTests := true, laidLooks := .later }
def PagesKeepsUptoCardSaid : Prop := Claim7.holds Tryd.pinned (.plain (OpenSpec.upto pagesKeepsSpec)) pagesKeepsUptoCard

/-- THE SECOND FORM's CARD OF 'headwaterlaw10.PagesApart'. -/
def pagesApartUptoCard : Claim7 := { stood := { row := pagesApartUptoRow, standIns := [], harness := (true, "0bb906ea9f5dcf2a5a1b67fd75bd542bc0ad3a78795fbfaf86d454dee37251a7"), looks := false }, kinds := [], alts := [], laidByText := true, laidKinds := [.data], laidTests := true, laidLooks := .later }
def PagesApartUptoCardSaid : Prop := Claim7.holds Tryd.pinned (.plain (OpenSpec.upto pagesApartSpec)) pagesApartUptoCard
end Rows
end Go.Proofs.YtdfihpnmiiaflaaDoor
