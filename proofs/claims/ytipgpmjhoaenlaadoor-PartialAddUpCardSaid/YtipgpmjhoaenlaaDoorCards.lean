/-
  DERIVED. GIVEN WITH THE SEED: THE CARDS: each row of YtipgpmjhoaenlaaDoorRows.lean that lists a variable, with what it lists TIED to the program's text (the seventh form; the later family's looks); each row that meets fmt, with fmt's text TOLD by the authors' own Lean function (tested against real Go, not proved from fmt's source: count such statements apart). THE CARD IS WHAT COUNTS. Prove the row's statement (the work); the ties are given (YtipgpmjhoaenlaaDoorTie.lean); close each card by the builder's one call (the guide's Derived/Test/ToyasCard.lean, 'card_holds'). Laid BY PROGRAM, IN A SANDBOX (cutbox-door.mjs). By AI agents, Wed Nov 11 2026. No macro, syntax, notation, axiom, sorry.
-/
import Derived.Test.YtipgpmjhoaenlaaDoorRows
import GoSem.ClaimSeven
namespace Go.Proofs.YtipgpmjhoaenlaaDoor
namespace Rows

/-- THE TIED CARD OF 'girolaw37.PartialAllowed'. -/
def partialAllowedCard : Claim7 := { stood := { row := partialAllowedRow, standIns := [], harness := (true, "76dabc64307f47ca0fcfdc6f2a30d82a91755a8b7755b85bf17e2bc931960dcf"), looks := false }, kinds := [], alts := [], laidByText := true, laidKinds := [.data], laidTests := true, laidLooks := .later }
def PartialAllowedCardSaid : Prop := Claim7.holds Tryd.pinned (.plain (OpenSpec.ofChange partialAllowedSpec)) partialAllowedCard

/-- THE TIED CARD OF 'girolaw37.PartialSplit'. -/
def partialSplitCard : Claim7 := { stood := { row := partialSplitRow, standIns := [], harness := (true, "76dabc64307f47ca0fcfdc6f2a30d82a91755a8b7755b85bf17e2bc931960dcf"), looks := false }, kinds := [], alts := [], laidByText := true, laidKinds := [.data], laidTests := true, laidLooks := .later }
def PartialSplitCardSaid : Prop := Claim7.holds Tryd.pinned (.plain (OpenSpec.ofChange partialSplitSpec)) partialSplitCard

/-- THE TIED CARD OF 'girolaw37.PartialAddUp'. -/
def partialAddUpCard : Claim7 := { stood := { row := partialAddUpRow, standIns := [], harness := (true, "76dabc64307f47ca0fcfdc6f2a30d82a91755a8b7755b85bf17e2bc931960dcf"), looks := false }, kinds := [], alts := [], laidByText := true, laidKinds := [.data], laidTests := true, laidLooks := .later }
def PartialAddUpCardSaid : Prop := Claim7.holds Tryd.pinned (.plain (OpenSpec.ofChange partialAddUpSpec)) partialAddUpCard

/-- THE TIED CARD OF 'girolaw37.PartialLargest'. -/
def partialLargestCard : Claim7 := { stood := { row := partialLargestRow, standIns := [], harness := (true, "76dabc64307f47ca0fcfdc6f2a30d82a91755a8b7755b85bf17e2bc931960dcf"), looks := false }, kinds := [], alts := [], laidByText := true, laidKinds := [.data], laidTests := true, laidLooks := .later }
def PartialLargestCardSaid : Prop := Claim7.holds Tryd.pinned (.plain (OpenSpec.ofChange partialLargestSpec)) partialLargestCard

/-- THE TIED CARD OF 'girolaw37.PartialMaximal'. -/
def partialMaximalCard : Claim7 := { stood := { row := partialMaximalRow, standIns := [], harness := (true, "76dabc64307f47ca0fcfdc6f2a30d82a91755a8b7755b85bf17e2bc931960dcf"), looks := false }, kinds := [], alts := [], laidByText := true, laidKinds := [.data], laidTests := true, laidLooks := .later }
def PartialMaximalCardSaid : Prop := Claim7.holds Tryd.pinned (.plain (OpenSpec.ofChange partialMaximalSpec)) partialMaximalCard

/-- THE TIED CARD OF 'girolaw37.PartialLargestMonotone'. -/
def partialLargestMonotoneCard : Claim7 := { stood := { row := partialLargestMonotoneRow, standIns := [], harness := (true, "76dabc64307f47ca0fcfdc6f2a30d82a91755a8b7755b85bf17e2bc931960dcf"), looks := false }, kinds := [], alts := [], laidByText := true, laidKinds := [.data], laidTests := true, laidLooks := .later }
def PartialLargestMonotoneCardSaid : Prop := Claim7.holds Tryd.pinned (.plain (OpenSpec.ofChange partialLargestMonotoneSpec)) partialLargestMonotoneCard

/-- THE SECOND FORM's CARD OF 'girolaw37.PartialAllowed'. -/
def partialAllowedUptoCard : Claim7 := { stood := { row := partialAllowedUptoRow, standIns := [], harness := (true, "76dabc64307f47ca0fcfdc6f2a30d82a91755a8b7755b85bf17e2bc931960dcf"), looks := false }, kinds := [], alts := [], laidByText := true, laidKinds := [.data], laidTests := true, laidLooks := .later }
def PartialAllowedUptoCardSaid : Prop := Claim7.holds Tryd.pinned (.plain (OpenSpec.upto partialAllowedSpec)) partialAllowedUptoCard

/-- THE SECOND FORM's CARD OF 'girolaw37.PartialSplit'. -/
def partialSplitUptoCard : Claim7 := { stood := { row := partialSplitUptoRow, standIns := [], harness := (true, "76dabc64307f47ca0fcfdc6f2a30d82a91755a8b7755b85bf17e2bc931960dcf"), looks := false }, kinds := [], alts := [], laidByText := true, laidKinds := [.data], laidTests := true, laidLooks := .later }
def PartialSplitUptoCardSaid : Prop := Claim7.holds Tryd.pinned (.plain (OpenSpec.upto partialSplitSpec)) partialSplitUptoCard

/-- THE SECOND FORM's CARD OF 'girolaw37.PartialAddUp'. -/
def partialAddUpUptoCard : Claim7 := { stood := { row := partialAddUpUptoRow, standIns := [], harness := (true, "76dabc64307f47ca0fcfdc6f2a30d82a91755a8b7755b85bf17e2bc931960dcf"), looks := false }, kinds := [], alts := [], laidByText := true, laidKinds := [.data], laidTests := true, laidLooks := .later }
def PartialAddUpUptoCardSaid : Prop := Claim7.holds Tryd.pinned (.plain (OpenSpec.upto partialAddUpSpec)) partialAddUpUptoCard

/-- THE SECOND FORM's CARD OF 'girolaw37.PartialLargest'. -/
def partialLargestUptoCard : Claim7 := { stood := { row := partialLargestUptoRow, standIns := [], harness := (true, "76dabc64307f47ca0fcfdc6f2a30d82a91755a8b7755b85bf17e2bc931960dcf"), looks := false }, kinds := [], alts := [], laidByText := true, laidKinds := [.data], laidTests := true, laidLooks := .later }
def PartialLargestUptoCardSaid : Prop := Claim7.holds Tryd.pinned (.plain (OpenSpec.upto partialLargestSpec)) partialLargestUptoCard

/-- THE SECOND FORM's CARD OF 'girolaw37.PartialMaximal'. -/
def partialMaximalUptoCard : Claim7 := { stood := { row := partialMaximalUptoRow, standIns := [], harness := (true, "76dabc64307f47ca0fcfdc6f2a30d82a91755a8b7755b85bf17e2bc931960dcf"), looks := false }, kinds := [], alts := [], laidByText := true, laidKinds := [.data], laidTests := true, laidLooks := .later }
def PartialMaximalUptoCardSaid : Prop := Claim7.holds Tryd.pinned (.plain (OpenSpec.upto partialMaximalSpec)) partialMaximalUptoCard

/-- THE SECOND FORM's CARD OF 'girolaw37.PartialLargestMonotone'. -/
def partialLargestMonotoneUptoCard : Claim7 := { stood := { row := partialLargestMonotoneUptoRow, standIns := [], harness := (true, "76dabc64307f47ca0fcfdc6f2a30d82a91755a8b7755b85bf17e2bc931960dcf"), looks := false }, kinds := [], alts := [], laidByText := true, laidKinds := [.data], laidTests := true, laidLooks := .later }
def PartialLargestMonotoneUptoCardSaid : Prop := Claim7.holds Tryd.pinned (.plain (OpenSpec.upto partialLargestMonotoneSpec)) partialLargestMonotoneUptoCard
end Rows
end Go.Proofs.YtipgpmjhoaenlaaDoor
