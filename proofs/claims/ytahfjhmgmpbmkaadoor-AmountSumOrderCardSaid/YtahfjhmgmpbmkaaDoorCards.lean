/-
  DERIVED. GIVEN WITH THE SEED: THE CARDS: each row of YtahfjhmgmpbmkaaDoorRows.lean that lists a variable, with what it lists TIED to the program's text (the seventh form; the later family's looks); each row that meets fmt, with fmt's text TOLD by the authors' own Lean function (tested against real Go, not proved from fmt's source: count such statements apart). THE CARD IS WHAT COUNTS. Prove the row's statement (the work); the ties are given (YtahfjhmgmpbmkaaDoorTie.lean); close each card by the builder's one call (the guide's Derived/Test/ToyasCard.lean, 'card_holds'). Laid BY PROGRAM, IN A SANDBOX (cutbox-door.mjs). By AI agents, Wed Nov 11 2026. No macro, syntax, notation, axiom, sorry.
-/
import Derived.Test.YtahfjhmgmpbmkaaDoorRows
import GoSem.ClaimSeven
namespace Go.Proofs.YtahfjhmgmpbmkaaDoor
namespace Rows

/-- THE TIED CARD OF 'girolaw01.AmountAdd'. -/
def amountAddCard : Claim7 := { stood := { row := amountAddRow, standIns := [], harness := (true, "949a84711cb81a85960630c9effd1fed247d3e2f310693510c65d3867c350572"), looks := false }, kinds := [], alts := [], laidByText := true, laidKinds := [.data, .data, .data], laidTests := true, laidLooks := .later }
def AmountAddCardSaid : Prop := Claim7.holds Tryd.pinned (.plain (OpenSpec.ofChange amountAddSpec)) amountAddCard

/-- THE TIED CARD OF 'girolaw01.AmountSum'. -/
def amountSumCard : Claim7 := { stood := { row := amountSumRow, standIns := [], harness := (true, "949a84711cb81a85960630c9effd1fed247d3e2f310693510c65d3867c350572"), looks := false }, kinds := [], alts := [], laidByText := true, laidKinds := [.data, .data, .data], laidTests := true, laidLooks := .later }
def AmountSumCardSaid : Prop := Claim7.holds Tryd.pinned (.plain (OpenSpec.ofChange amountSumSpec)) amountSumCard

/-- THE TIED CARD OF 'girolaw01.AmountSumOrder'. -/
def amountSumOrderCard : Claim7 := { stood := { row := amountSumOrderRow, standIns := [], harness := (true, "949a84711cb81a85960630c9effd1fed247d3e2f310693510c65d3867c350572"), looks := false }, kinds := [], alts := [], laidByText := true, laidKinds := [.data, .data, .data], laidTests := true, laidLooks := .later }
def AmountSumOrderCardSaid : Prop := Claim7.holds Tryd.pinned (.plain (OpenSpec.ofChange amountSumOrderSpec)) amountSumOrderCard

/-- THE TIED CARD OF 'girolaw01.AmountMulDiv'. -/
def amountMulDivCard : Claim7 := { stood := { row := amountMulDivRow, standIns := [], harness := (true, "949a84711cb81a85960630c9effd1fed247d3e2f310693510c65d3867c350572"), looks := false }, kinds := [], alts := [], laidByText := true, laidKinds := [.data, .data, .data], laidTests := true, laidLooks := .later }
def AmountMulDivCardSaid : Prop := Claim7.holds Tryd.pinned (.plain (OpenSpec.ofChange amountMulDivSpec)) amountMulDivCard

/-- THE TIED CARD OF 'girolaw01.AmountMulRem'. -/
def amountMulRemCard : Claim7 := { stood := { row := amountMulRemRow, standIns := [], harness := (true, "949a84711cb81a85960630c9effd1fed247d3e2f310693510c65d3867c350572"), looks := false }, kinds := [], alts := [], laidByText := true, laidKinds := [.data, .data, .data], laidTests := true, laidLooks := .later }
def AmountMulRemCardSaid : Prop := Claim7.holds Tryd.pinned (.plain (OpenSpec.ofChange amountMulRemSpec)) amountMulRemCard

/-- THE TIED CARD OF 'girolaw01.AmountRounding'. -/
def amountRoundingCard : Claim7 := { stood := { row := amountRoundingRow, standIns := [], harness := (true, "949a84711cb81a85960630c9effd1fed247d3e2f310693510c65d3867c350572"), looks := false }, kinds := [], alts := [], laidByText := true, laidKinds := [.data, .data, .data], laidTests := true, laidLooks := .later }
def AmountRoundingCardSaid : Prop := Claim7.holds Tryd.pinned (.plain (OpenSpec.ofChange amountRoundingSpec)) amountRoundingCard

/-- THE TIED CARD OF 'girolaw01.AmountNegation'. -/
def amountNegationCard : Claim7 := { stood := { row := amountNegationRow, standIns := [], harness := (true, "949a84711cb81a85960630c9effd1fed247d3e2f310693510c65d3867c350572"), looks := false }, kinds := [], alts := [], laidByText := true, laidKinds := [.data, .data, .data], laidTests := true, laidLooks := .later }
def AmountNegationCardSaid : Prop := Claim7.holds Tryd.pinned (.plain (OpenSpec.ofChange amountNegationSpec)) amountNegationCard

/-- THE TIED CARD OF 'girolaw01.AmountMonotone'. -/
def amountMonotoneCard : Claim7 := { stood := { row := amountMonotoneRow, standIns := [], harness := (true, "949a84711cb81a85960630c9effd1fed247d3e2f310693510c65d3867c350572"), looks := false }, kinds := [], alts := [], laidByText := true, laidKinds := [.data, .data, .data], laidTests := true, laidLooks := .later }
def AmountMonotoneCardSaid : Prop := Claim7.holds Tryd.pinned (.plain (OpenSpec.ofChange amountMonotoneSpec)) amountMonotoneCard

/-- THE TIED CARD OF 'girolaw01.AmountFormatParse'. -/
def amountFormatParseCard : Claim7 := { stood := { row := amountFormatParseRow, standIns := [], harness := (true, "949a84711cb81a85960630c9effd1fed247d3e2f310693510c65d3867c350572"), looks := false }, kinds := [], alts := [], laidByText := true, laidKinds := [.data, .data, .data], laidTests := true, laidLooks := .later }
def AmountFormatParseCardSaid : Prop := Claim7.holds Tryd.pinned (.plain (OpenSpec.ofChange amountFormatParseSpec)) amountFormatParseCard

/-- THE TIED CARD OF 'girolaw01.AmountParse'. -/
def amountParseCard : Claim7 := { stood := { row := amountParseRow, standIns := [], harness := (true, "949a84711cb81a85960630c9effd1fed247d3e2f310693510c65d3867c350572"), looks := false }, kinds := [], alts := [], laidByText := true, laidKinds := [.data, .data, .data], laidTests := true, laidLooks := .later }
def AmountParseCardSaid : Prop := Claim7.holds Tryd.pinned (.plain (OpenSpec.ofChange amountParseSpec)) amountParseCard

/-- THE SECOND FORM's CARD OF 'girolaw01.AmountAdd'. -/
def amountAddUptoCard : Claim7 := { stood := { row := amountAddUptoRow, standIns := [], harness := (true, "949a84711cb81a85960630c9effd1fed247d3e2f310693510c65d3867c350572"), looks := false }, kinds := [], alts := [], laidByText := true, laidKinds := [.data, .data, .data], laidTests := true, laidLooks := .later }
def AmountAddUptoCardSaid : Prop := Claim7.holds Tryd.pinned (.plain (OpenSpec.upto amountAddSpec)) amountAddUptoCard

/-- THE SECOND FORM's CARD OF 'girolaw01.AmountSum'. -/
def amountSumUptoCard : Claim7 := { stood := { row := amountSumUptoRow, standIns := [], harness := (true, "949a84711cb81a85960630c9effd1fed247d3e2f310693510c65d3867c350572"), looks := false }, kinds := [], alts := [], laidByText := true, laidKinds := [.data, .data, .data], laidTests := true, laidLooks := .later }
def AmountSumUptoCardSaid : Prop := Claim7.holds Tryd.pinned (.plain (OpenSpec.upto amountSumSpec)) amountSumUptoCard

/-- THE SECOND FORM's CARD OF 'girolaw01.AmountSumOrder'. -/
def amountSumOrderUptoCard : Claim7 := { stood := { row := amountSumOrderUptoRow, standIns := [], harness := (true, "949a84711cb81a85960630c9effd1fed247d3e2f310693510c65d3867c350572"), looks := false }, kinds := [], alts := [], laidByText := true, laidKinds := [.data, .data, .data], laidTests := true, laidLooks := .later }
def AmountSumOrderUptoCardSaid : Prop := Claim7.holds Tryd.pinned (.plain (OpenSpec.upto amountSumOrderSpec)) amountSumOrderUptoCard

/-- THE SECOND FORM's CARD OF 'girolaw01.AmountMulDiv'. -/
def amountMulDivUptoCard : Claim7 := { stood := { row := amountMulDivUptoRow, standIns := [], harness := (true, "949a84711cb81a85960630c9effd1fed247d3e2f310693510c65d3867c350572"), looks := false }, kinds := [], alts := [], laidByText := true, laidKinds := [.data, .data, .data], laidTests := true, laidLooks := .later }
def AmountMulDivUptoCardSaid : Prop := Claim7.holds Tryd.pinned (.plain (OpenSpec.upto amountMulDivSpec)) amountMulDivUptoCard

/-- THE SECOND FORM's CARD OF 'girolaw01.AmountMulRem'. -/
def amountMulRemUptoCard : Claim7 := { stood := { row := amountMulRemUptoRow, standIns := [], harness := (true, "949a84711cb81a85960630c9effd1fed247d3e2f310693510c65d3867c350572"), looks := false }, kinds := [], alts := [], laidByText := true, laidKinds := [.data, .data, .data], laidTests := true, laidLooks := .later }
def AmountMulRemUptoCardSaid : Prop := Claim7.holds Tryd.pinned (.plain (OpenSpec.upto amountMulRemSpec)) amountMulRemUptoCard

/-- THE SECOND FORM's CARD OF 'girolaw01.AmountRounding'. -/
def amountRoundingUptoCard : Claim7 := { stood := { row := amountRoundingUptoRow, standIns := [], harness := (true, "949a84711cb81a85960630c9effd1fed247d3e2f310693510c65d3867c350572"), looks := false }, kinds := [], alts := [], laidByText := true, laidKinds := [.data, .data, .data], laidTests := true, laidLooks := .later }
def AmountRoundingUptoCardSaid : Prop := Claim7.holds Tryd.pinned (.plain (OpenSpec.upto amountRoundingSpec)) amountRoundingUptoCard

/-- THE SECOND FORM's CARD OF 'girolaw01.AmountNegation'. -/
def amountNegationUptoCard : Claim7 := { stood := { row := amountNegationUptoRow, standIns := [], harness := (true, "949a84711cb81a85960630c9effd1fed247d3e2f310693510c65d3867c350572"), looks := false }, kinds := [], alts := [], laidByText := true, laidKinds := [.data, .data, .data], laidTests := true, laidLooks := .later }
def AmountNegationUptoCardSaid : Prop := Claim7.holds Tryd.pinned (.plain (OpenSpec.upto amountNegationSpec)) amountNegationUptoCard

/-- THE SECOND FORM's CARD OF 'girolaw01.AmountMonotone'. -/
def amountMonotoneUptoCard : Claim7 := { stood := { row := amountMonotoneUptoRow, standIns := [], harness := (true, "949a84711cb81a85960630c9effd1fed247d3e2f310693510c65d3867c350572"), looks := false }, kinds := [], alts := [], laidByText := true, laidKinds := [.data, .data, .data], laidTests := true, laidLooks := .later }
def AmountMonotoneUptoCardSaid : Prop := Claim7.holds Tryd.pinned (.plain (OpenSpec.upto amountMonotoneSpec)) amountMonotoneUptoCard

/-- THE SECOND FORM's CARD OF 'girolaw01.AmountFormatParse'. -/
def amountFormatParseUptoCard : Claim7 := { stood := { row := amountFormatParseUptoRow, standIns := [], harness := (true, "949a84711cb81a85960630c9effd1fed247d3e2f310693510c65d3867c350572"), looks := false }, kinds := [], alts := [], laidByText := true, laidKinds := [.data, .data, .data], laidTests := true, laidLooks := .later }
def AmountFormatParseUptoCardSaid : Prop := Claim7.holds Tryd.pinned (.plain (OpenSpec.upto amountFormatParseSpec)) amountFormatParseUptoCard

/-- THE SECOND FORM's CARD OF 'girolaw01.AmountParse'. -/
def amountParseUptoCard : Claim7 := { stood := { row := amountParseUptoRow, standIns := [], harness := (true, "949a84711cb81a85960630c9effd1fed247d3e2f310693510c65d3867c350572"), looks := false }, kinds := [], alts := [], laidByText := true, laidKinds := [.data, .data, .data], laidTests := true, laidLooks := .later }
def AmountParseUptoCardSaid : Prop := Claim7.holds Tryd.pinned (.plain (OpenSpec.upto amountParseSpec)) amountParseUptoCard
end Rows
end Go.Proofs.YtahfjhmgmpbmkaaDoor
