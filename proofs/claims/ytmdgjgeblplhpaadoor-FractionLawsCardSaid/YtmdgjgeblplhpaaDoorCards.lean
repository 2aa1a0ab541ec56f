/-
  DERIVED. GIVEN WITH THE SEED: THE CARDS: each row of YtmdgjgeblplhpaaDoorRows.lean that lists a variable, with what it lists TIED to the program's text (the seventh form; the later family's looks); each row that meets fmt, with fmt's text TOLD by the authors' own Lean function (tested against real Go, not proved from fmt's source: count such statements apart). THE CARD IS WHAT COUNTS. Prove the row's statement (the work); the ties are given (YtmdgjgeblplhpaaDoorTie.lean); close each card by the builder's one call (the guide's Derived/Test/ToyasCard.lean, 'card_holds'). Laid BY PROGRAM, IN A SANDBOX (cutbox-door.mjs). By AI agents, Wed Nov 11 2026. No macro, syntax, notation, axiom, sorry.
-/
import Derived.Test.YtmdgjgeblplhpaaDoorRows
import GoSem.ClaimSeven
namespace Go.Proofs.YtmdgjgeblplhpaaDoor
namespace Rows

/-- THE TIED CARD OF 'girolaw02.FractionNew'. -/
def fractionNewCard : Claim7 := { stood := { row := fractionNewRow, standIns := [], harness := (true, "b6ae661ca6ab3d9643efdf0663a775bc3198517227f703d81f98c81fac8b493d"), looks := false }, kinds := [], alts := [], laidByText := true, laidKinds := [.data, .data, .data], laidTests := true, laidLooks := .later }
def FractionNewCardSaid : Prop := Claim7.holds Tryd.pinned (.plain (OpenSpec.ofChange fractionNewSpec)) fractionNewCard

/-- THE TIED CARD OF 'girolaw02.FractionCheck'. -/
def fractionCheckCard : Claim7 := { stood := { row := fractionCheckRow, standIns := [], harness := (true, "b6ae661ca6ab3d9643efdf0663a775bc3198517227f703d81f98c81fac8b493d"), looks := false }, kinds := [], alts := [], laidByText := true, laidKinds := [.data, .data, .data], laidTests := true, laidLooks := .later }
def FractionCheckCardSaid : Prop := Claim7.holds Tryd.pinned (.plain (OpenSpec.ofChange fractionCheckSpec)) fractionCheckCard

/-- THE TIED CARD OF 'girolaw02.FractionArithmetic'. -/
def fractionArithmeticCard : Claim7 := { stood := { row := fractionArithmeticRow, standIns := [], harness := (true, "b6ae661ca6ab3d9643efdf0663a775bc3198517227f703d81f98c81fac8b493d"), looks := false }, kinds := [], alts := [], laidByText := true, laidKinds := [.data, .data, .data], laidTests := true, laidLooks := .later }
def FractionArithmeticCardSaid : Prop := Claim7.holds Tryd.pinned (.plain (OpenSpec.ofChange fractionArithmeticSpec)) fractionArithmeticCard

/-- THE TIED CARD OF 'girolaw02.FractionLaws'. -/
def fractionLawsCard : Claim7 := { stood := { row := fractionLawsRow, standIns := [], harness := (true, "b6ae661ca6ab3d9643efdf0663a775bc3198517227f703d81f98c81fac8b493d"), looks := false }, kinds := [], alts := [], laidByText := true, laidKinds := [.data, .data, .data], laidTests := true, laidLooks := .later }
def FractionLawsCardSaid : Prop := Claim7.holds Tryd.pinned (.plain (OpenSpec.ofChange fractionLawsSpec)) fractionLawsCard

/-- THE TIED CARD OF 'girolaw02.FractionCompare'. -/
def fractionCompareCard : Claim7 := { stood := { row := fractionCompareRow, standIns := [], harness := (true, "b6ae661ca6ab3d9643efdf0663a775bc3198517227f703d81f98c81fac8b493d"), looks := false }, kinds := [], alts := [], laidByText := true, laidKinds := [.data, .data, .data], laidTests := true, laidLooks := .later }
def FractionCompareCardSaid : Prop := Claim7.holds Tryd.pinned (.plain (OpenSpec.ofChange fractionCompareSpec)) fractionCompareCard

/-- THE TIED CARD OF 'girolaw02.FractionOf'. -/
def fractionOfCard : Claim7 := { stood := { row := fractionOfRow, standIns := [], harness := (true, "b6ae661ca6ab3d9643efdf0663a775bc3198517227f703d81f98c81fac8b493d"), looks := false }, kinds := [], alts := [], laidByText := true, laidKinds := [.data, .data, .data], laidTests := true, laidLooks := .later }
def FractionOfCardSaid : Prop := Claim7.holds Tryd.pinned (.plain (OpenSpec.ofChange fractionOfSpec)) fractionOfCard

/-- THE TIED CARD OF 'girolaw02.FractionRounding'. -/
def fractionRoundingCard : Claim7 := { stood := { row := fractionRoundingRow, standIns := [], harness := (true, "b6ae661ca6ab3d9643efdf0663a775bc3198517227f703d81f98c81fac8b493d"), looks := false }, kinds := [], alts := [], laidByText := true, laidKinds := [.data, .data, .data], laidTests := true, laidLooks := .later }
def FractionRoundingCardSaid : Prop := Claim7.holds Tryd.pinned (.plain (OpenSpec.ofChange fractionRoundingSpec)) fractionRoundingCard

/-- THE TIED CARD OF 'girolaw02.FractionSplit'. -/
def fractionSplitCard : Claim7 := { stood := { row := fractionSplitRow, standIns := [], harness := (true, "b6ae661ca6ab3d9643efdf0663a775bc3198517227f703d81f98c81fac8b493d"), looks := false }, kinds := [], alts := [], laidByText := true, laidKinds := [.data, .data, .data], laidTests := true, laidLooks := .later }
def FractionSplitCardSaid : Prop := Claim7.holds Tryd.pinned (.plain (OpenSpec.ofChange fractionSplitSpec)) fractionSplitCard

/-- THE TIED CARD OF 'girolaw02.FractionSplitFair'. -/
def fractionSplitFairCard : Claim7 := { stood := { row := fractionSplitFairRow, standIns := [], harness := (true, "b6ae661ca6ab3d9643efdf0663a775bc3198517227f703d81f98c81fac8b493d"), looks := false }, kinds := [], alts := [], laidByText := true, laidKinds := [.data, .data, .data], laidTests := true, laidLooks := .later }
def FractionSplitFairCardSaid : Prop := Claim7.holds Tryd.pinned (.plain (OpenSpec.ofChange fractionSplitFairSpec)) fractionSplitFairCard

/-- THE SECOND FORM's CARD OF 'girolaw02.FractionNew'. -/
def fractionNewUptoCard : Claim7 := { stood := { row := fractionNewUptoRow, standIns := [], harness := (true, "b6ae661ca6ab3d9643efdf0663a775bc3198517227f703d81f98c81fac8b493d"), looks := false }, kinds := [], alts := [], laidByText := true, laidKinds := [.data, .data, .data], laidTests := true, laidLooks := .later }
def FractionNewUptoCardSaid : Prop := Claim7.holds Tryd.pinned (.plain (OpenSpec.upto fractionNewSpec)) fractionNewUptoCard

/-- THE SECOND FORM's CARD OF 'girolaw02.FractionCheck'. -/
def fractionCheckUptoCard : Claim7 := { stood := { row := fractionCheckUptoRow, standIns := [], harness := (true, "b6ae661ca6ab3d9643efdf0663a775bc3198517227f703d81f98c81fac8b493d"), looks := false }, kinds := [], alts := [], laidByText := true, laidKinds := [.data, .data, .data], laidTests := true, laidLooks := .later }
def FractionCheckUptoCardSaid : Prop := Claim7.holds Tryd.pinned (.plain (OpenSpec.upto fractionCheckSpec)) fractionCheckUptoCard

/-- THE SECOND FORM's CARD OF 'girolaw02.FractionArithmetic'. -/
def fractionArithmeticUptoCard : Claim7 := { stood := { row := fractionArithmeticUptoRow, standIns := [], harness := (true, "b6ae661ca6ab3d9643efdf0663a775bc3198517227f703d81f98c81fac8b493d"), looks := false }, kinds := [], alts := [], laidByText := true, laidKinds := [.data, .data, .data], laidTests := true, laidLooks := .later }
def FractionArithmeticUptoCardSaid : Prop := Claim7.holds Tryd.pinned (.plain (OpenSpec.upto fractionArithmeticSpec)) fractionArithmeticUptoCard

/-- THE SECOND FORM's CARD OF 'girolaw02.FractionLaws'. -/
def fractionLawsUptoCard : Claim7 := { stood := { row := fractionLawsUptoRow, standIns := [], harness := (true, "b6ae661ca6ab3d9643efdf0663a775bc3198517227f703d81f98c81fac8b493d"), looks := false }, kinds := [], alts := [], laidByText := true, laidKinds := [.data, .data, .data], laidTests := true, laidLooks := .later }
def FractionLawsUptoCardSaid : Prop := Claim7.holds Tryd.pinned (.plain (OpenSpec.upto fractionLawsSpec)) fractionLawsUptoCard

/-- THE SECOND FORM's CARD OF 'girolaw02.FractionCompare'. -/
def fractionCompareUptoCard : Claim7 := { stood := { row := fractionCompareUptoRow, standIns := [], harness := (true, "b6ae661ca6ab3d9643efdf0663a775bc3198517227f703d81f98c81fac8b493d"), looks := false }, kinds := [], alts := [], laidByText := true, laidKinds := [.data, .data, .data], laidTests := true, laidLooks := .later }
def FractionCompareUptoCardSaid : Prop := Claim7.holds Tryd.pinned (.plain (OpenSpec.upto fractionCompareSpec)) fractionCompareUptoCard

/-- THE SECOND FORM's CARD OF 'girolaw02.FractionOf'. -/
def fractionOfUptoCard : Claim7 := { stood := { row := fractionOfUptoRow, standIns := [], harness := (true, "b6ae661ca6ab3d9643efdf0663a775bc3198517227f703d81f98c81fac8b493d"), looks := false }, kinds := [], alts := [], laidByText := true, laidKinds := [.data, .data, .data], laidTests := true, laidLooks := .later }
def FractionOfUptoCardSaid : Prop := Claim7.holds Tryd.pinned (.plain (OpenSpec.upto fractionOfSpec)) fractionOfUptoCard

/-- THE SECOND FORM's CARD OF 'girolaw02.FractionRounding'. -/
def fractionRoundingUptoCard : Claim7 := { stood := { row := fractionRoundingUptoRow, standIns := [], harness := (true, "b6ae661ca6ab3d9643efdf0663a775bc3198517227f703d81f98c81fac8b493d"), looks := false }, kinds := [], alts := [], laidByText := true, laidKinds := [.data, .data, .data], laidTests := true, laidLooks := .later }
def FractionRoundingUptoCardSaid : Prop := Claim7.holds Tryd.pinned (.plain (OpenSpec.upto fractionRoundingSpec)) fractionRoundingUptoCard

/-- THE SECOND FORM's CARD OF 'girolaw02.FractionSplit'. -/
def fractionSplitUptoCard : Claim7 := { stood := { row := fractionSplitUptoRow, standIns := [], harness := (true, "b6ae661ca6ab3d9643efdf0663a775bc3198517227f703d81f98c81fac8b493d"), looks := false }, kinds := [], alts := [], laidByText := true, laidKinds := [.data, .data, .data], laidTests := true, laidLooks := .later }
def FractionSplitUptoCardSaid : Prop := Claim7.holds Tryd.pinned (.plain (OpenSpec.upto fractionSplitSpec)) fractionSplitUptoCard

/-- THE SECOND FORM's CARD OF 'girolaw02.FractionSplitFair'. -/
def fractionSplitFairUptoCard : Claim7 := { stood := { row := fractionSplitFairUptoRow, standIns := [], harness := (true, "b6ae661ca6ab3d9643efdf0663a775bc3198517227f703d81f98c81fac8b493d"), looks := false }, kinds := [], alts := [], laidByText := true, laidKinds := [.data, .data, .data], laidTests := true, laidLooks := .later }
def FractionSplitFairUptoCardSaid : Prop := Claim7.holds Tryd.pinned (.plain (OpenSpec.upto fractionSplitFairSpec)) fractionSplitFairUptoCard
end Rows
end Go.Proofs.YtmdgjgeblplhpaaDoor
