/-
  Contract of date.ToCivil at this translation.
-/
import Derived.Test.YtahfjhmgmpbmkacDoorDa3
namespace Go.Proofs.YtahfjhmgmpbmkacDoor
open Go.RowKit
set_option linter.unusedVariables false

theorem tc_no (n : Int) (w : World) (h : n < 0 ∨ 73048 < n) : Calls Tryd.prog 15 #[.int .i64 n] w fun e w' => e = .returned (.tuple #[.agg #[.int .i64 0, .int .i64 0, .int .i64 0], .int .i64 2]) ∧ Below w.heap.size w w' := by
  have v := fun w => hide (valid_any n w)
  have hb := dayB_no h
  clear h
  go_enter Tryd.func15, Tryd.ntmps15
  go_wp2_with fail
  refine (v _).out.mono ?_
  rintro e w' ⟨rfl, rfl⟩
  go_wp2_with fail
  exact bodyPost_ret (v := .tuple #[.agg #[.int .i64 0, .int .i64 0, .int .i64 0], .int .i64 2]) (by simp [results, Tryd.results15, go_sem]) rfl ⟨rfl, (Below.refl _ _).alloc (Nat.le_refl _) _⟩

theorem dim_ge1 (y : Int) (j : Nat) (y1 : 2000 ≤ y) (y2 : y ≤ 2199) (hj : j < 12) : 1 ≤ dim y ((j : Int) + 1) := by
  have h12 : j = 0 ∨ j = 1 ∨ j = 2 ∨ j = 3 ∨ j = 4 ∨ j = 5 ∨ j = 6 ∨ j = 7 ∨ j = 8 ∨ j = 9 ∨ j = 10 ∨ j = 11 := by omega
  have e : dim y ((j : Int) + 1) = if (j : Int) + 1 = 2 ∧ leapB y = true then 29 else monthTab.getD j 0 := by
    unfold dim; rw [if_neg (by omega)]; simp
  rw [e]
  split
  · omega
  · rcases h12 with h | h | h | h | h | h | h | h | h | h | h | h <;> rw [h] <;> decide

theorem tc_in (n y : Int) (k : Nat) (w : World) (T : Tabs w) (h : InMonth n y k) : Calls Tryd.prog 15 #[.int .i64 n] w fun e w' => e = .returned (.tuple #[.agg #[.int .i64 y, .int .i64 ((k : Int) + 1), .int .i64 (n - NY y - cum y k + 1)], .int .i64 0]) ∧ Below w.heap.size w w' := by
  obtain ⟨y1, y2, h1, h2, k12, c1, c2⟩ := h
  have n1 : 0 ≤ n := by have := ny_mono y1; rw [ny_2000] at this; omega
  have n2 : n ≤ 73048 := by have := ny_mono (show y + 1 ≤ 2200 by omega); rw [ny_2200] at this; omega
  have v := fun w => hide (valid_any n w)
  have yo := fun w => hide (yearOf_any n y w h1 h2 (by omega) (by omega) (by omega) (by omega))
  have hb := dayB_yes n1 n2
  obtain ⟨b1, b2⟩ := ny_bd y (by omega) (by omega)
  have H1 := hide h1
  have C1 := hide c1
  have C2 := hide c2
  clear h1 h2 c1 c2
  go_enter Tryd.func15, Tryd.ntmps15
  go_wp2_with fail
  refine (v _).out.mono ?_
  rintro e w' ⟨rfl, rfl⟩
  go_wp2_with fail
  refine (yo _).out.mono ?_
  rintro e w' ⟨rfl, rfl⟩
  go_wp2_with (go_at_call 45; refine (ny_any _ _ (by omega) (by omega)).mono ?_; rintro e w' ⟨rfl, rfl⟩)
  have T2 := fun o o' => hide (T.keep (((Below.refl _ _).alloc (Nat.le_refl _) o).alloc (by simp) o'))
  have r400 : n - NY y ≤ 400 := by
    have hh : NY (y + 1) ≤ NY y + 366 := by rw [leap_01]; split <;> omega
    have := n2
    have h3 : n < NY (y + 1) := by have := C2.out; have := cum_mono y (show k + 1 ≤ 12 by omega); rw [cum_12 y y1 y2] at this; omega
    omega
  have r0 : 0 ≤ n - NY y := by have := H1.out; omega
  go_loopw [5] (fun s5 wr => ∃ (j : Nat) (r : Int), j ≤ k ∧ wr = (w.alloc (.cells #[.int .i64 0, .int .i64 0, .int .i64 0] 26)).alloc (.cells #[.int .i64 y, .int .i64 ((j : Int) + 1), .int .i64 0] 26) ∧ s5 = .int .i64 r ∧ Hid (r = n - NY y - cum y j) ∧ 0 ≤ r ∧ r ≤ 400) (fun s5 _ => (intOf s5).toNat)
  case atStart => exact ⟨0, _, Nat.zero_le _, rfl, rfl, hide (by simp [cum]), r0, r400⟩
  case round =>
    obtain ⟨j, r, hj, rfl, rfl, HR, q1, q2⟩ := hrel
    obtain ⟨d1, d2⟩ := dim_bd y ((j : Int) + 1)
    have D1 := fun o o' => hide (dim_any y ((j : Int) + 1) ((w.alloc o).alloc o') (T2 o o').out)
    by_cases hlt : j < k
    · have hge : dim y ((j : Int) + 1) ≤ r := by
        have := cum_mono y (show j + 1 ≤ k by omega)
        have e : cum y (j + 1) = cum y j + dim y ((j : Int) + 1) := rfl
        have := C1.out; have := HR.out; omega
      have dp : 1 ≤ dim y ((j : Int) + 1) := by
        exact dim_ge1 y j y1 y2 (by omega)
      have HN : Hid (r - dim y ((j : Int) + 1) = n - NY y - cum y (j + 1)) := hide (by simp only [cum]; have := HR.out; omega)
      go_wp2_with (go_at_call 26; refine (D1 _ _).out.mono ?_; rintro e w' ⟨rfl, rfl⟩)
      go_roundw
      case rel => exact ⟨j + 1, _, by omega, by go_num, rfl, HN, by omega, by omega⟩
      case measure => simp [intOf]; omega
    · obtain rfl : j = k := by omega
      have hlt2 : r < dim y ((j : Int) + 1) := by have := C2.out; simp only [cum] at this; have := HR.out; omega
      have hr2 := HR.out
      subst hr2
      clear HR
      go_wp2_with (go_at_call 26; refine (D1 _ _).out.mono ?_; rintro e w' ⟨rfl, rfl⟩)
      exact bodyPost_ret (v := .tuple #[.agg #[.int .i64 y, .int .i64 ((j : Int) + 1), .int .i64 (n - NY y - cum y j + 1)], .int .i64 0]) (by simp [results, Tryd.results15, go_sem]) rfl
        ⟨rfl, ((Below.refl _ _).alloc (Nat.le_refl _) _).alloc (by simp) _⟩
end Go.Proofs.YtahfjhmgmpbmkacDoor
