/-
  DERIVED. GIVEN WITH THE SEED: THE CARDS: each row of YtkmpmegiiaamdaaDoorRows.lean that lists a variable, with what it lists TIED to the program's text (the seventh form; the later family's looks); each row that meets fmt, with fmt's text TOLD by the authors' own Lean function (tested against real Go, not proved from fmt's source: count such statements apart). THE CARD IS WHAT COUNTS. Prove the row's statement (the work); the ties are given (YtkmpmegiiaamdaaDoorTie.lean); close each card by the builder's one call (the guide's Derived/Test/ToyasCard.lean, 'card_holds'). Laid BY PROGRAM, IN A SANDBOX (cutbox-door.mjs). By AI agents, Wed Nov 11 2026. No macro, syntax, notation, axiom, sorry.
-/
import Derived.Test.YtkmpmegiiaamdaaDoorRows
import GoSem.ClaimSeven
namespace Go.Proofs.YtkmpmegiiaamdaaDoor
namespace Rows

/-- THE TIED CARD OF 'girolaw46.FailCheck'. -/
def failCheckCard : Claim7 := { stood := { row := failCheckRow, standIns := [], harness := (true, "c9d025c1a35821150ebd8db5caebd51f43cfce37efa6072433ebce545beacf01"), looks := false }, kinds := [], alts := [], laidByText := true, laidKinds := [.data], laidTests := true, laidLooks := .later }
def FailCheckCardSaid : Prop := Claim7.holds Tryd.pinned (.plain (OpenSpec.ofChange failCheckSpec)) failCheckCard

/-- THE TIED CARD OF 'girolaw46.FailPenalty'. -/
def failPenaltyCard : Claim7 := { stood := { row := failPenaltyRow, standIns := [], harness := (true, "c9d025c1a35821150ebd8db5caebd51f43cfce37efa6072433ebce545beacf01"), looks := false }, kinds := [], alts := [], laidByText := true, laidKinds := [.data], laidTests := true, laidLooks := .later }
def FailPenaltyCardSaid : Prop := Claim7.holds Tryd.pinned (.plain (OpenSpec.ofChange failPenaltySpec)) failPenaltyCard

/-- THE TIED CARD OF 'girolaw46.FailMonotone'. -/
def failMonotoneCard : Claim7 := { stood := { row := failMonotoneRow, standIns := [], harness := (true, "c9d025c1a35821150ebd8db5caebd51f43cfce37efa6072433ebce545beacf01"), looks := false }, kinds := [], alts := [], laidByText := true, laidKinds := [.data], laidTests := true, laidLooks := .later }
def FailMonotoneCardSaid : Prop := Claim7.holds Tryd.pinned (.plain (OpenSpec.ofChange failMonotoneSpec)) failMonotoneCard

/-- THE TIED CARD OF 'girolaw46.FailCompensation'. -/
def failCompensationCard : Claim7 := { stood := { row := failCompensationRow, standIns := [], harness := (true, "c9d025c1a35821150ebd8db5caebd51f43cfce37efa6072433ebce545beacf01"), looks := false }, kinds := [], alts := [], laidByText := true, laidKinds := [.data], laidTests := true, laidLooks := .later }
def FailCompensationCardSaid : Prop := Claim7.holds Tryd.pinned (.plain (OpenSpec.ofChange failCompensationSpec)) failCompensationCard

/-- THE SECOND FORM's CARD OF 'girolaw46.FailCheck'. -/
def failCheckUptoCard : Claim7 := { stood := { row := failCheckUptoRow, standIns := [], harness := (true, "c9d025c1a35821150ebd8db5caebd51f43cfce37efa6072433ebce545beacf01"), looks := false }, kinds := [], alts := [], laidByText := true, laidKinds := [.data], laidTests := true, laidLooks := .later }
def FailCheckUptoCardSaid : Prop := Claim7.holds Tryd.pinned (.plain (OpenSpec.upto failCheckSpec)) failCheckUptoCard

/-- THE SECOND FORM's CARD OF 'girolaw46.FailPenalty'. -/
def failPenaltyUptoCard : Claim7 := { stood := { row := failPenaltyUptoRow, standIns := [], harness := (true, "c9d025c1a35821150ebd8db5caebd51f43cfce37efa6072433ebce545beacf01"), looks := false }, kinds := [], alts := [], laidByText := true, laidKinds := [.data], laidTests := true, laidLooks := .later }
def FailPenaltyUptoCardSaid : Prop := Claim7.holds Tryd.pinned (.plain (OpenSpec.upto failPenaltySpec)) failPenaltyUptoCard

/-- THE SECOND FORM's CARD OF 'girolaw46.FailMonotone'. -/
def failMonotoneUptoCard : Claim7 := { stood := { row := failMonotoneUptoRow, standIns := [], harness := (true, "c9d025c1a35821150ebd8db5caebd51f43cfce37efa6072433ebce545beacf01"), looks := false }, kinds := [], alts := [], laidByText := true, laidKinds := [.data], laidTests := true, laidLooks := .later }
def FailMonotoneUptoCardSaid : Prop := Claim7.holds Tryd.pinned (.plain (OpenSpec.upto failMonotoneSpec)) failMonotoneUptoCard

/-- THE SECOND FORM's CARD OF 'girolaw46.FailCompensation'. -/
def failCompensationUptoCard : Claim7 := { stood := { row := failCompensationUptoRow, standIns := [], harness := (true, "c9d025c1a35821150ebd8db5caebd51f43cfce37efa6072433ebce545beacf01"), looks := false }, kinds := [], alts := [], laidByText := true, laidKinds := [.data], laidTests := true, laidLooks := .later }
def FailCompensationUptoCardSaid : Prop := Claim7.holds Tryd.pinned (.plain (OpenSpec.upto failCompensationSpec)) failCompensationUptoCard
end Rows
end Go.Proofs.YtkmpmegiiaamdaaDoor
