/-
  DERIVED. GIVEN WITH THE SEED: THE CARDS: each row of YtgikafojkcjllaaDoorRows.lean that lists a variable, with what it lists TIED to the program's text (the seventh form; the later family's looks); each row that meets fmt, with fmt's text TOLD by the authors' own Lean function (tested against real Go, not proved from fmt's source: count such statements apart). THE CARD IS WHAT COUNTS. Prove the row's statement (the work); the ties are given (YtgikafojkcjllaaDoorTie.lean); close each card by the builder's one call (the guide's Derived/Test/ToyasCard.lean, 'card_holds'). Laid BY PROGRAM, IN A SANDBOX (cutbox-door.mjs). By AI agents, Wed Nov 11 2026. No macro, syntax, notation, axiom, sorry.
-/
import Derived.Test.YtgikafojkcjllaaDoorRows
import GoSem.ClaimSeven
namespace Go.Proofs.YtgikafojkcjllaaDoor
namespace Rows

/-- THE TIED CARD OF 'girolaw01.AmountFormatParse'. -/
def amountFormatParseCard : Claim7 := { stood := { row := amountFormatParseRow, standIns := [], harness := (true, "b2c26233e1673b188e0529370cffe765fe66fe57d2b939981bd083400c685473"), looks := false }, kinds := [], alts := [], laidByText := true, laidKinds := [.data, .data, .data], laidTests := true, laidLooks := .later }
def AmountFormatParseCardSaid : Prop := Claim7.holds Tryd.pinned (.plain (OpenSpec.ofChange amountFormatParseSpec)) amountFormatParseCard

/-- THE TIED CARD OF 'girolaw01.AmountParse'. -/
def amountParseCard : Claim7 := { stood := { row := amountParseRow, standIns := [], harness := (true, "b2c26233e1673b188e0529370cffe765fe66fe57d2b939981bd083400c685473"), looks := false }, kinds := [], alts := [], laidByText := true, laidKinds := [.data, .data, .data], laidTests := true, laidLooks := .later }
def AmountParseCardSaid : Prop := Claim7.holds Tryd.pinned (.plain (OpenSpec.ofChange amountParseSpec)) amountParseCard

/-- THE SECOND FORM's CARD OF 'girolaw01.AmountFormatParse'. -/
def amountFormatParseUptoCard : Claim7 := { stood := { row := amountFormatParseUptoRow, standIns := [], harness := (true, "b2c26233e1673b188e0529370cffe765fe66fe57d2b939981bd083400c685473"), looks := false }, kinds := [], alts := [], laidByText := true, laidKinds := [.data, .data, .data], laidTests := true, laidLooks := .later }
def AmountFormatParseUptoCardSaid : Prop := Claim7.holds Tryd.pinned (.plain (OpenSpec.upto amountFormatParseSpec)) amountFormatParseUptoCard

/-- THE SECOND FORM's CARD OF 'girolaw01.AmountParse'. -/
def amountParseUptoCard : Claim7 := { stood := { row := amountParseUptoRow, standIns := [], harness := (true, "b2c26233e1673b188e0529370cffe765fe66fe57d2b939981bd083400c685473"), looks := false }, kinds := [], alts := [], laidByText := true, laidKinds := [.data, .data, .data], laidTests := true, laidLooks := .later }
def AmountParseUptoCardSaid : Prop := Claim7.holds Tryd.pinned (.plain (OpenSpec.upto amountParseSpec)) amountParseUptoCard
end Rows
end Go.Proofs.YtgikafojkcjllaaDoor
