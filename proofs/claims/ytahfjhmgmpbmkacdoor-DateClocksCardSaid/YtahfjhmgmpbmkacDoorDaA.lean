/-
  The example of the chapter (the statements' 'known') holds at this translation, in every world in which the tables stand.
-/
import Derived.Test.YtahfjhmgmpbmkacDoorDa9
import Derived.Test.YtahfjhmgmpbmkacDoorDa6
namespace Go.Proofs.YtahfjhmgmpbmkacDoor
open Go.RowKit
set_option linter.unusedVariables false

theorem m1 : InMonth 9816 2026 10 := ⟨by decide, by decide, by decide, by decide, by decide, by decide, by decide⟩
theorem m2 : InMonth 8796 2024 0 := ⟨by decide, by decide, by decide, by decide, by decide, by decide, by decide⟩
theorem m3 : InMonth 8825 2024 1 := ⟨by decide, by decide, by decide, by decide, by decide, by decide, by decide⟩
theorem m4 : InMonth 9190 2025 1 := ⟨by decide, by decide, by decide, by decide, by decide, by decide, by decide⟩

theorem it2026 : Lib.itoa 2026 = [50, 48, 50, 54] := by simp [Lib.itoa, Lib.decDigits]
theorem it2025 : Lib.itoa 2025 = [50, 48, 50, 53] := by simp [Lib.itoa, Lib.decDigits]
theorem fs1 : fmtS 2026 ((10 : Nat) + 1 : Int) (9816 - NY 2026 - cum 2026 10 + 1) = ⟨#[50, 48, 50, 54, 45, 49, 49, 45, 49, 54]⟩ := by
  unfold fmtS; rw [it2026]; decide
theorem fs2 : fmtS 2025 ((1 : Nat) + 1 : Int) (9190 - NY 2025 - cum 2025 1 + 1) = ⟨#[50, 48, 50, 53, 45, 48, 50, 45, 50, 56]⟩ := by
  unfold fmtS; rw [it2025]; decide

def janS : ByteArray := ⟨#[50, 48, 50, 52, 45, 48, 49, 45, 51, 49]⟩
theorem jan_form : HasForm janS dform := by
  refine ⟨rfl, fun j hj => ?_⟩
  have hj' : j < 10 := hj
  have : j = 0 ∨ j = 1 ∨ j = 2 ∨ j = 3 ∨ j = 4 ∨ j = 5 ∨ j = 6 ∨ j = 7 ∨ j = 8 ∨ j = 9 := by omega
  rcases this with rfl | rfl | rfl | rfl | rfl | rfl | rfl | rfl | rfl | rfl <;> (unfold suits; decide)

theorem k_fc (w : World) (T : Tabs w) : Calls Tryd.prog 20 #[.agg #[.int .i64 2026, .int .i64 11, .int .i64 16]] w fun e w' => e = .returned (.tuple #[.int .i64 9816, .int .i64 0]) ∧ Below w.heap.size w w' := by
  have h := fc_any 2026 11 16 w T
  rwa [show fcV 2026 11 16 = 9816 by decide, show fcE 2026 11 16 = 0 by decide] at h
theorem k_iso (w : World) : Calls Tryd.prog 33 #[.int .i64 9816] w fun e w' => e = .returned (.tuple #[.int .i64 2026, .int .i64 47, .int .i64 0]) ∧ w = w' := by
  have h := iso_in 9816 2026 w (by decide) (by decide) (by decide) (by decide) (by decide) (by decide)
  rwa [show (9816 - wkd 9816 + 3 - NY 2026) / 7 + 1 = 47 by decide] at h
theorem k_f1 (w : World) (T : Tabs w) : Calls Tryd.prog 35 #[.int .i64 9816] w fun e w' => e = .returned (.tuple #[.string ⟨#[50, 48, 50, 54, 45, 49, 49, 45, 49, 54]⟩, .int .i64 0]) ∧ Below w.heap.size w w' := by
  have h := fm_in 9816 2026 10 w T m1
  rwa [fs1] at h
theorem k_f2 (w : World) (T : Tabs w) : Calls Tryd.prog 35 #[.int .i64 9190] w fun e w' => e = .returned (.tuple #[.string ⟨#[50, 48, 50, 53, 45, 48, 50, 45, 50, 56]⟩, .int .i64 0]) ∧ Below w.heap.size w w' := by
  have h := fm_in 9190 2025 1 w T m4
  rwa [fs2] at h
theorem k_pa (w : World) (T : Tabs w) : Calls Tryd.prog 36 #[.string ⟨#[50, 48, 50, 52, 45, 48, 49, 45, 51, 49]⟩] w fun e w' => e = .returned (.tuple #[.int .i64 8796, .int .i64 0]) ∧ Below w.heap.size w w' := by
  have h := pa_yes janS w T jan_form
  rwa [show fcV (nv janS 0 4) (nv janS 5 2) (nv janS 8 2) = 8796 by decide, show fcE (nv janS 0 4) (nv janS 5 2) (nv janS 8 2) = 0 by decide] at h
theorem k_a1 (w : World) (T : Tabs w) : Calls Tryd.prog 28 #[.int .i64 8796, .int .i64 1] w fun e w' => e = .returned (.tuple #[.int .i64 8825, .int .i64 0]) ∧ Below w.heap.size w w' := by
  have h := am_in 8796 1 2024 0 w T m2 (by decide) (by decide)
  rwa [show amD (MN 2024 0 + 1) (8796 - NY 2024 - cum 2024 0 + 1) = 8825 by decide] at h
theorem k_a13 (w : World) (T : Tabs w) : Calls Tryd.prog 28 #[.int .i64 8796, .int .i64 13] w fun e w' => e = .returned (.tuple #[.int .i64 9190, .int .i64 0]) ∧ Below w.heap.size w w' := by
  have h := am_in 8796 13 2024 0 w T m2 (by decide) (by decide)
  rwa [show amD (MN 2024 0 + 13) (8796 - NY 2024 - cum 2024 0 + 1) = 9190 by decide] at h
theorem k_mb (w : World) (T : Tabs w) : Calls Tryd.prog 31 #[.int .i64 8796, .int .i64 8825] w fun e w' => e = .returned (.tuple #[.int .i64 1, .int .i64 0]) ∧ Below w.heap.size w w' := by
  have h := mb_in 8796 8825 2024 2024 0 1 w T m2 m3 (by decide) (by decide)
  rwa [show muV (MN 2024 0) (MN 2024 1) (amD (MN 2024 1) (8796 - NY 2024 - cum 2024 0 + 1)) 8825 = 1 by decide] at h
theorem k_wk (w : World) : Calls Tryd.prog 18 #[.int .i64 9816] w fun e w' => e = .returned (.int .i64 0) ∧ w = w' := by
  have h := wkd_any 9816 w
  rwa [show wkd 9816 = 0 by decide] at h
end Go.Proofs.YtahfjhmgmpbmkacDoor
