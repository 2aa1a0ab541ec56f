/-
  DERIVED. GIVEN WITH THE SEED: THE CARDS: each row of YtahfjhmgmpbmkacDoorRows.lean that lists a variable, with what it lists TIED to the program's text (the seventh form; the later family's looks); each row that meets fmt, with fmt's text TOLD by the authors' own Lean function (tested against real Go, not proved from fmt's source: count such statements apart). THE CARD IS WHAT COUNTS. Prove the row's statement (the work); the ties are given (YtahfjhmgmpbmkacDoorTie.lean); close each card by the builder's one call (the guide's Derived/Test/ToyasCard.lean, 'card_holds'). Laid BY PROGRAM, IN A SANDBOX (cutbox-door.mjs). By AI agents, Wed Nov 11 2026. No macro, syntax, notation, axiom, sorry.
-/
import Derived.Test.YtahfjhmgmpbmkacDoorRows
import GoSem.ClaimSeven
namespace Go.Proofs.YtahfjhmgmpbmkacDoor
namespace Rows

/-- THE TIED CARD OF 'girolaw03.DateCivil'. -/
def dateCivilCard : Claim7 := { stood := { row := dateCivilRow, standIns := [], harness := (true, "74e2a46eb6bec711e23c7d5ffead3db0c63b1245797253fda25a8241310085bc"), looks := false }, kinds := [], alts := [], laidByText := true, laidKinds := [.data, .data, .data, .data], laidTests := true, laidLooks := .later }
def DateCivilCardSaid : Prop := Claim7.holds Tryd.pinned (.plain (OpenSpec.ofChange dateCivilSpec)) dateCivilCard

/-- THE TIED CARD OF 'girolaw03.DateFromCivil'. -/
def dateFromCivilCard : Claim7 := { stood := { row := dateFromCivilRow, standIns := [], harness := (true, "74e2a46eb6bec711e23c7d5ffead3db0c63b1245797253fda25a8241310085bc"), looks := false }, kinds := [], alts := [], laidByText := true, laidKinds := [.data, .data, .data, .data], laidTests := true, laidLooks := .later }
def DateFromCivilCardSaid : Prop := Claim7.holds Tryd.pinned (.plain (OpenSpec.ofChange dateFromCivilSpec)) dateFromCivilCard

/-- THE TIED CARD OF 'girolaw03.DateMonthLengths'. -/
def dateMonthLengthsCard : Claim7 := { stood := { row := dateMonthLengthsRow, standIns := [], harness := (true, "74e2a46eb6bec711e23c7d5ffead3db0c63b1245797253fda25a8241310085bc"), looks := false }, kinds := [], alts := [], laidByText := true, laidKinds := [.data, .data, .data, .data], laidTests := true, laidLooks := .later }
def DateMonthLengthsCardSaid : Prop := Claim7.holds Tryd.pinned (.plain (OpenSpec.ofChange dateMonthLengthsSpec)) dateMonthLengthsCard

/-- THE TIED CARD OF 'girolaw03.DateAddMonths'. -/
def dateAddMonthsCard : Claim7 := { stood := { row := dateAddMonthsRow, standIns := [], harness := (true, "74e2a46eb6bec711e23c7d5ffead3db0c63b1245797253fda25a8241310085bc"), looks := false }, kinds := [], alts := [], laidByText := true, laidKinds := [.data, .data, .data, .data], laidTests := true, laidLooks := .later }
def DateAddMonthsCardSaid : Prop := Claim7.holds Tryd.pinned (.plain (OpenSpec.ofChange dateAddMonthsSpec)) dateAddMonthsCard

/-- THE TIED CARD OF 'girolaw03.DateMonthsBetween'. -/
def dateMonthsBetweenCard : Claim7 := { stood := { row := dateMonthsBetweenRow, standIns := [], harness := (true, "74e2a46eb6bec711e23c7d5ffead3db0c63b1245797253fda25a8241310085bc"), looks := false }, kinds := [], alts := [], laidByText := true, laidKinds := [.data, .data, .data, .data], laidTests := true, laidLooks := .later }
def DateMonthsBetweenCardSaid : Prop := Claim7.holds Tryd.pinned (.plain (OpenSpec.ofChange dateMonthsBetweenSpec)) dateMonthsBetweenCard

/-- THE TIED CARD OF 'girolaw03.DateWeeks'. -/
def dateWeeksCard : Claim7 := { stood := { row := dateWeeksRow, standIns := [], harness := (true, "74e2a46eb6bec711e23c7d5ffead3db0c63b1245797253fda25a8241310085bc"), looks := false }, kinds := [], alts := [], laidByText := true, laidKinds := [.data, .data, .data, .data], laidTests := true, laidLooks := .later }
def DateWeeksCardSaid : Prop := Claim7.holds Tryd.pinned (.plain (OpenSpec.ofChange dateWeeksSpec)) dateWeeksCard

/-- THE TIED CARD OF 'girolaw03.DateTexts'. -/
def dateTextsCard : Claim7 := { stood := { row := dateTextsRow, standIns := [], harness := (true, "74e2a46eb6bec711e23c7d5ffead3db0c63b1245797253fda25a8241310085bc"), looks := false }, kinds := [], alts := [], laidByText := true, laidKinds := [.data, .data, .data, .data], laidTests := true, laidLooks := .later }
def DateTextsCardSaid : Prop := Claim7.holds Tryd.pinned (.plain (OpenSpec.ofChange dateTextsSpec)) dateTextsCard

/-- THE TIED CARD OF 'girolaw03.DateParse'. -/
def dateParseCard : Claim7 := { stood := { row := dateParseRow, standIns := [], harness := (true, "74e2a46eb6bec711e23c7d5ffead3db0c63b1245797253fda25a8241310085bc"), looks := false }, kinds := [], alts := [], laidByText := true, laidKinds := [.data, .data, .data, .data], laidTests := true, laidLooks := .later }
def DateParseCardSaid : Prop := Claim7.holds Tryd.pinned (.plain (OpenSpec.ofChange dateParseSpec)) dateParseCard

/-- THE TIED CARD OF 'girolaw03.DateClocks'. -/
def dateClocksCard : Claim7 := { stood := { row := dateClocksRow, standIns := [], harness := (true, "74e2a46eb6bec711e23c7d5ffead3db0c63b1245797253fda25a8241310085bc"), looks := false }, kinds := [], alts := [], laidByText := true, laidKinds := [.data, .data, .data, .data], laidTests := true, laidLooks := .later }
def DateClocksCardSaid : Prop := Claim7.holds Tryd.pinned (.plain (OpenSpec.ofChange dateClocksSpec)) dateClocksCard

/-- THE TIED CARD OF 'girolaw03.DateWeekdays'. -/
def dateWeekdaysCard : Claim7 := { stood := { row := dateWeekdaysRow, standIns := [], harness := (true, "74e2a46eb6bec711e23c7d5ffead3db0c63b1245797253fda25a8241310085bc"), looks := false }, kinds := [], alts := [], laidByText := true, laidKinds := [.data, .data, .data, .data], laidTests := true, laidLooks := .later }
def DateWeekdaysCardSaid : Prop := Claim7.holds Tryd.pinned (.plain (OpenSpec.ofChange dateWeekdaysSpec)) dateWeekdaysCard

/-- THE SECOND FORM's CARD OF 'girolaw03.DateCivil'. -/
def dateCivilUptoCard : Claim7 := { stood := { row := dateCivilUptoRow, standIns := [], harness := (true, "74e2a46eb6bec711e23c7d5ffead3db0c63b1245797253fda25a8241310085bc"), looks := false }, kinds := [], alts := [], laidByText := true, laidKinds := [.data, .data, .data, .data], laidTests := true, laidLooks := .later }
def DateCivilUptoCardSaid : Prop := Claim7.holds Tryd.pinned (.plain (OpenSpec.upto dateCivilSpec)) dateCivilUptoCard

/-- THE SECOND FORM's CARD OF 'girolaw03.DateFromCivil'. -/
def dateFromCivilUptoCard : Claim7 := { stood := { row := dateFromCivilUptoRow, standIns := [], harness := (true, "74e2a46eb6bec711e23c7d5ffead3db0c63b1245797253fda25a8241310085bc"), looks := false }, kinds := [], alts := [], laidByText := true, laidKinds := [.data, .data, .data, .data], laidTests := true, laidLooks := .later }
def DateFromCivilUptoCardSaid : Prop := Claim7.holds Tryd.pinned (.plain (OpenSpec.upto dateFromCivilSpec)) dateFromCivilUptoCard

/-- THE SECOND FORM's CARD OF 'girolaw03.DateMonthLengths'. -/
def dateMonthLengthsUptoCard : Claim7 := { stood := { row := dateMonthLengthsUptoRow, standIns := [], harness := (true, "74e2a46eb6bec711e23c7d5ffead3db0c63b1245797253fda25a8241310085bc"), looks := false }, kinds := [], alts := [], laidByText := true, laidKinds := [.data, .data, .data, .data], laidTests := true, laidLooks := .later }
def DateMonthLengthsUptoCardSaid : Prop := Claim7.holds Tryd.pinned (.plain (OpenSpec.upto dateMonthLengthsSpec)) dateMonthLengthsUptoCard

/-- THE SECOND FORM's CARD OF 'girolaw03.DateAddMonths'. -/
def dateAddMonthsUptoCard : Claim7 := { stood := { row := dateAddMonthsUptoRow, standIns := [], harness := (true, "74e2a46eb6bec711e23c7d5ffead3db0c63b1245797253fda25a8241310085bc"), looks := false }, kinds := [], alts := [], laidByText := true, laidKinds := [.data, .data, .data, .data], laidTests := true, laidLooks := .later }
def DateAddMonthsUptoCardSaid : Prop := Claim7.holds Tryd.pinned (.plain (OpenSpec.upto dateAddMonthsSpec)) dateAddMonthsUptoCard

/-- THE SECOND FORM's CARD OF 'girolaw03.DateMonthsBetween'. -/
def dateMonthsBetweenUptoCard : Claim7 := { stood := { row := dateMonthsBetweenUptoRow, standIns := [], harness := (true, "74e2a46eb6bec711e23c7d5ffead3db0c63b1245797253fda25a8241310085bc"), looks := false }, kinds := [], alts := [], laidByText := true, laidKinds := [.data, .data, .data, .data], laidTests := true, laidLooks := .later }
def DateMonthsBetweenUptoCardSaid : Prop := Claim7.holds Tryd.pinned (.plain (OpenSpec.upto dateMonthsBetweenSpec)) dateMonthsBetweenUptoCard

/-- THE SECOND FORM's CARD OF 'girolaw03.DateWeeks'. -/
def dateWeeksUptoCard : Claim7 := { stood := { row := dateWeeksUptoRow, standIns := [], harness := (true, "74e2a46eb6bec711e23c7d5ffead3db0c63b1245797253fda25a8241310085bc"), looks := false }, kinds := [], alts := [], laidByText := true, laidKinds := [.data, .data, .data, .data], laidTests := true, laidLooks := .later }
def DateWeeksUptoCardSaid : Prop := Claim7.holds Tryd.pinned (.plain (OpenSpec.upto dateWeeksSpec)) dateWeeksUptoCard

/-- THE SECOND FORM's CARD OF 'girolaw03.DateTexts'. -/
def dateTextsUptoCard : Claim7 := { stood := { row := dateTextsUptoRow, standIns := [], harness := (true, "74e2a46eb6bec711e23c7d5ffead3db0c63b1245797253fda25a8241310085bc"), looks := false }, kinds := [], alts := [], laidByText := true, laidKinds := [.data, .data, .data, .data], laidTests := true, laidLooks := .later }
def DateTextsUptoCardSaid : Prop := Claim7.holds Tryd.pinned (.plain (OpenSpec.upto dateTextsSpec)) dateTextsUptoCard

/-- THE SECOND FORM's CARD OF 'girolaw03.DateParse'. -/
def dateParseUptoCard : Claim7 := { stood := { row := dateParseUptoRow, standIns := [], harness := (true, "74e2a46eb6bec711e23c7d5ffead3db0c63b1245797253fda25a8241310085bc"), looks := false }, kinds := [], alts := [], laidByText := true, laidKinds := [.data, .data, .data, .data], laidTests := true, laidLooks := .later }
def DateParseUptoCardSaid : Prop := Claim7.holds Tryd.pinned (.plain (OpenSpec.upto dateParseSpec)) dateParseUptoCard

/-- THE SECOND FORM's CARD OF 'girolaw03.DateClocks'. -/
def dateClocksUptoCard : Claim7 := { stood := { row := dateClocksUptoRow, standIns := [], harness := (true, "74e2a46eb6bec711e23c7d5ffead3db0c63b1245797253fda25a8241310085bc"), looks := false }, kinds := [], alts := [], laidByText := true, laidKinds := [.data, .data, .data, .data], laidTests := true, laidLooks := .later }
def DateClocksUptoCardSaid : Prop := Claim7.holds Tryd.pinned (.plain (OpenSpec.upto dateClocksSpec)) dateClocksUptoCard

/-- THE SECOND FORM's CARD OF 'girolaw03.DateWeekdays'. -/
def dateWeekdaysUptoCard : Claim7 := { stood := { row := dateWeekdaysUptoRow, standIns := [], harness := (true, "74e2a46eb6bec711e23c7d5ffead3db0c63b1245797253fda25a8241310085bc"), looks := false }, kinds := [], alts := [], laidByText := true, laidKinds := [.data, .data, .data, .data], laidTests := true, laidLooks := .later }
def DateWeekdaysUptoCardSaid : Prop := Claim7.holds Tryd.pinned (.plain (OpenSpec.upto dateWeekdaysSpec)) dateWeekdaysUptoCard
end Rows
end Go.Proofs.YtahfjhmgmpbmkacDoor
