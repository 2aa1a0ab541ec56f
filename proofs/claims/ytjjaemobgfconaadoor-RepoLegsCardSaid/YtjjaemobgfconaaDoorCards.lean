/-
  DERIVED. GIVEN WITH THE SEED: THE CARDS: each row of YtjjaemobgfconaaDoorRows.lean that lists a variable, with what it lists TIED to the program's text (the seventh form; the later family's looks); each row that meets fmt, with fmt's text TOLD by the authors' own Lean function (tested against real Go, not proved from fmt's source: count such statements apart). THE CARD IS WHAT COUNTS. Prove the row's statement (the work); the ties are given (YtjjaemobgfconaaDoorTie.lean); close each card by the builder's one call (the guide's Derived/Test/ToyasCard.lean, 'card_holds'). Laid BY PROGRAM, IN A SANDBOX (cutbox-door.mjs). By AI agents, Wed Nov 11 2026. No macro, syntax, notation, axiom, sorry.
-/
import Derived.Test.YtjjaemobgfconaaDoorRows
import GoSem.ClaimSeven
namespace Go.Proofs.YtjjaemobgfconaaDoor
namespace Rows

/-- THE TIED CARD OF 'girolaw41.RepoCheck'. -/
def repoCheckCard : Claim7 := { stood := { row := repoCheckRow, standIns := [], harness := (true, "407f182c70e33ace43c04bdb95a9513599f42238c2b31f7aa20a33d3221331a8"), looks := false }, kinds := [], alts := [], laidByText := true, laidKinds := [.data], laidTests := true, laidLooks := .later }
def RepoCheckCardSaid : Prop := Claim7.holds Tryd.pinned (.plain (OpenSpec.ofChange repoCheckSpec)) repoCheckCard

/-- THE TIED CARD OF 'girolaw41.RepoInterest'. -/
def repoInterestCard : Claim7 := { stood := { row := repoInterestRow, standIns := [], harness := (true, "407f182c70e33ace43c04bdb95a9513599f42238c2b31f7aa20a33d3221331a8"), looks := false }, kinds := [], alts := [], laidByText := true, laidKinds := [.data], laidTests := true, laidLooks := .later }
def RepoInterestCardSaid : Prop := Claim7.holds Tryd.pinned (.plain (OpenSpec.ofChange repoInterestSpec)) repoInterestCard

/-- THE TIED CARD OF 'girolaw41.RepoRoll'. -/
def repoRollCard : Claim7 := { stood := { row := repoRollRow, standIns := [], harness := (true, "407f182c70e33ace43c04bdb95a9513599f42238c2b31f7aa20a33d3221331a8"), looks := false }, kinds := [], alts := [], laidByText := true, laidKinds := [.data], laidTests := true, laidLooks := .later }
def RepoRollCardSaid : Prop := Claim7.holds Tryd.pinned (.plain (OpenSpec.ofChange repoRollSpec)) repoRollCard

/-- THE TIED CARD OF 'girolaw41.RepoExposure'. -/
def repoExposureCard : Claim7 := { stood := { row := repoExposureRow, standIns := [], harness := (true, "407f182c70e33ace43c04bdb95a9513599f42238c2b31f7aa20a33d3221331a8"), looks := false }, kinds := [], alts := [], laidByText := true, laidKinds := [.data], laidTests := true, laidLooks := .later }
def RepoExposureCardSaid : Prop := Claim7.holds Tryd.pinned (.plain (OpenSpec.ofChange repoExposureSpec)) repoExposureCard

/-- THE TIED CARD OF 'girolaw41.RepoLegs'. -/
def repoLegsCard : Claim7 := { stood := { row := repoLegsRow, standIns := [], harness := (true, "407f182c70e33ace43c04bdb95a9513599f42238c2b31f7aa20a33d3221331a8"), looks := false }, kinds := [], alts := [], laidByText := true, laidKinds := [.data], laidTests := true, laidLooks := .later }
def RepoLegsCardSaid : Prop := Claim7.holds Tryd.pinned (.plain (OpenSpec.ofChange repoLegsSpec)) repoLegsCard

/-- THE SECOND FORM's CARD OF 'girolaw41.RepoCheck'. -/
def repoCheckUptoCard : Claim7 := { stood := { row := repoCheckUptoRow, standIns := [], harness := (true, "407f182c70e33ace43c04bdb95a9513599f42238c2b31f7aa20a33d3221331a8"), looks := false }, kinds := [], alts := [], laidByText := true, laidKinds := [.data], laidTests := true, laidLooks := .later }
def RepoCheckUptoCardSaid : Prop := Claim7.holds Tryd.pinned (.plain (OpenSpec.upto repoCheckSpec)) repoCheckUptoCard

/-- THE SECOND FORM's CARD OF 'girolaw41.RepoInterest'. -/
def repoInterestUptoCard : Claim7 := { stood := { row := repoInterestUptoRow, standIns := [], harness := (true, "407f182c70e33ace43c04bdb95a9513599f42238c2b31f7aa20a33d3221331a8"), looks := false }, kinds := [], alts := [], laidByText := true, laidKinds := [.data], laidTests := true, laidLooks := .later }
def RepoInterestUptoCardSaid : Prop := Claim7.holds Tryd.pinned (.plain (OpenSpec.upto repoInterestSpec)) repoInterestUptoCard

/-- THE SECOND FORM's CARD OF 'girolaw41.RepoRoll'. -/
def repoRollUptoCard : Claim7 := { stood := { row := repoRollUptoRow, standIns := [], harness := (true, "407f182c70e33ace43c04bdb95a9513599f42238c2b31f7aa20a33d3221331a8"), looks := false }, kinds := [], alts := [], laidByText := true, laidKinds := [.data], laidTests := true, laidLooks := .later }
def RepoRollUptoCardSaid : Prop := Claim7.holds Tryd.pinned (.plain (OpenSpec.upto repoRollSpec)) repoRollUptoCard

/-- THE SECOND FORM's CARD OF 'girolaw41.RepoExposure'. -/
def repoExposureUptoCard : Claim7 := { stood := { row := repoExposureUptoRow, standIns := [], harness := (true, "407f182c70e33ace43c04bdb95a9513599f42238c2b31f7aa20a33d3221331a8"), looks := false }, kinds := [], alts := [], laidByText := true, laidKinds := [.data], laidTests := true, laidLooks := .later }
def RepoExposureUptoCardSaid : Prop := Claim7.holds Tryd.pinned (.plain (OpenSpec.upto repoExposureSpec)) repoExposureUptoCard

/-- THE SECOND FORM's CARD OF 'girolaw41.RepoLegs'. -/
def repoLegsUptoCard : Claim7 := { stood := { row := repoLegsUptoRow, standIns := [], harness := (true, "407f182c70e33ace43c04bdb95a9513599f42238c2b31f7aa20a33d3221331a8"), looks := false }, kinds := [], alts := [], laidByText := true, laidKinds := [.data], laidTests := true, laidLooks := .later }
def RepoLegsUptoCardSaid : Prop := Claim7.holds Tryd.pinned (.plain (OpenSpec.upto repoLegsSpec)) repoLegsUptoCard
end Rows
end Go.Proofs.YtjjaemobgfconaaDoor
