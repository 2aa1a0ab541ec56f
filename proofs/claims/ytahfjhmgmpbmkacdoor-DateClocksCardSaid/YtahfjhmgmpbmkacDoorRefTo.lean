/-
  Contract of the reference's To at this translation, at a day number.
-/
import Derived.Test.YtahfjhmgmpbmkacDoorDaC
namespace Go.Proofs.YtahfjhmgmpbmkacDoor
open Go.RowKit
set_option linter.unusedVariables false

set_option maxRecDepth 20000 in
theorem rto_in (N y : Int) (k : Nat) (w : World) (h : InMonth N y k) :
    Calls Tryd.prog 19 #[.int .i64 N] w fun e w' => e = .returned (.agg #[.int .i64 y, .int .i64 ((k : Int) + 1), .int .i64 (N - NY y - cum y k + 1)]) ∧ Below w.heap.size w w' := by
  obtain ⟨J, hJ⟩ : ∃ J : Nat, y = 2000 + J := ⟨(y - 2000).toNat, by have := h.y1; omega⟩
  have hb1 := ny_bd y (by have := h.y1; omega) (by have := h.y2; omega)
  have hb2 := ny_bd (y + 1) (by have := h.y1; omega) (by have := h.y2; omega)
  have y1 := h.y1
  have y2 := h.y2
  have lo := h.lo
  have hi := h.hi
  have lp := fun w y => hide (rleap_any y w)
  have ln := fun w y m => hide (rlen_any y m w)
  have H := hide h
  clear h
  go_enter Tryd.func19, Tryd.ntmps19
  go_wp2_with fail
  go_loopw [0, 4] (fun n _x wr => ∃ j : Nat, j ≤ J ∧ n = .int .i64 (N - NY (2000 + j)) ∧ wr = (w.alloc (.cells #[.int .i64 0, .int .i64 0, .int .i64 0] 32)).alloc (.cells #[.int .i64 (2000 + (j : Int)), .int .i64 1, .int .i64 1] 32)) (fun n _x wr => (intOf n).toNat)
  case atStart => exact ⟨0, Nat.zero_le _, by simp [ny_2000], by simp⟩
  case round =>
    obtain ⟨j, hj, rfl, rfl⟩ := hrel
    obtain ⟨Y, hY⟩ : ∃ Y : Int, Y = 2000 + (j : Int) := ⟨_, rfl⟩
    rw [← hY]
    have LY := leap_01 Y
    have bY := ny_bd Y (by omega) (by omega)
    have bY1 := ny_bd (Y + 1) (by omega) (by omega)
    have l := lp
    have Yb : 2000 ≤ Y := by omega
    have Yc : Y ≤ 2199 := by omega
    have hle : NY Y ≤ N := by have := ny_mono (show Y ≤ y by omega); omega
    by_cases hlt : j < J
    · have hj1 : j + 1 ≤ J := hlt
      have hle1 : NY (Y + 1) ≤ N := by have := ny_mono (show Y + 1 ≤ y by omega); omega
      have HY := hide hY
      have HL := hide LY
      have HJ := hide hJ
      clear hY hJ hlt
      generalize hA : NY Y = A at *
      generalize hB : NY (Y + 1) = A1 at *
      have HB := hide hB
      clear hA hB
      cases hb : leapB Y
      · rw [hb] at LY
        simp at LY
        go_wp2_with fail
        refine (l _ _).out.mono ?_
        rintro e w' ⟨rfl, rfl⟩
        rw [hb]
        go_wp2_with fail
        go_roundw
        case rel => exact ⟨j + 1, hj1, by rw [show (2000 : Int) + ((j + 1 : Nat) : Int) = Y + 1 by have := HY.out; omega, HB.out, LY]; go_num, by rw [show (2000 : Int) + ((j + 1 : Nat) : Int) = Y + 1 by have := HY.out; omega]⟩
        case measure => simp [intOf]; omega
      · rw [hb] at LY
        simp at LY
        go_wp2_with fail
        refine (l _ _).out.mono ?_
        rintro e w' ⟨rfl, rfl⟩
        rw [hb]
        go_wp2_with fail
        go_roundw
        case rel => exact ⟨j + 1, hj1, by rw [show (2000 : Int) + ((j + 1 : Nat) : Int) = Y + 1 by have := HY.out; omega, HB.out, LY]; go_num, by rw [show (2000 : Int) + ((j + 1 : Nat) : Int) = Y + 1 by have := HY.out; omega]⟩
        case measure => simp [intOf]; omega
    · obtain rfl : j = J := by omega
      obtain rfl : y = Y := by omega
      have HY := hide hY
      have C12 := hide (H.out.c1)
      have C2 := hide (H.out.c2)
      have k12 := H.out.k12
      clear hY hJ hlt hj
      have HLo := hide (show N - NY y = N - NY y - cum y 0 by simp [cum])
      generalize hA : NY y = A at *
      generalize NY (y + 1) = A1 at *
      cases hb : leapB y
      · rw [hb] at LY
        simp at LY
        have dd : N - A < 365 := by omega
        go_wp2_with fail
        refine (l _ _).out.mono ?_
        rintro e w' ⟨rfl, rfl⟩
        rw [hb]
        go_wp2_with fail
        go_loopw [0] (fun s0 wr => ∃ (j : Nat) (r : Int), j ≤ k ∧ wr = (w.alloc (.cells #[.int .i64 0, .int .i64 0, .int .i64 0] 32)).alloc (.cells #[.int .i64 y, .int .i64 ((j : Int) + 1), .int .i64 1] 32) ∧ s0 = .int .i64 r ∧ Hid (r = N - A - cum y j) ∧ 0 ≤ r ∧ r ≤ 400) (fun s0 _ => (intOf s0).toNat)
        case atStart => exact ⟨0, _, Nat.zero_le _, rfl, rfl, hide (by simp [cum]), by omega, by omega⟩
        case round =>
          obtain ⟨i, r, hi2, rfl, rfl, HR, q1, q2⟩ := hrel
          obtain ⟨d1, d2⟩ := dim_bd y ((i : Int) + 1)
          by_cases hlt2 : i < k
          · have hge : dim y ((i : Int) + 1) ≤ r := by
              have := cum_mono y (show i + 1 ≤ k by omega)
              have e : cum y (i + 1) = cum y i + dim y ((i : Int) + 1) := rfl
              have := C12.out; have := HR.out; omega
            have dp : 1 ≤ dim y ((i : Int) + 1) := dim_ge1 y i Yb Yc (by omega)
            have HN : Hid (r - dim y ((i : Int) + 1) = N - A - cum y (i + 1)) := hide (by simp only [cum]; have := HR.out; omega)
            go_wp2_with (go_at_call 27; refine (ln _ _ _).out.mono ?_; rintro e w' ⟨rfl, rfl⟩)
            go_roundw
            case rel => exact ⟨i + 1, _, by omega, by go_num, rfl, HN, by omega, by omega⟩
            case measure => simp [intOf]; omega
          · obtain rfl : i = k := by omega
            have hlt3 : r < dim y ((i : Int) + 1) := by have := C2.out; simp only [cum] at this; have := HR.out; omega
            have hr2 := HR.out
            subst hr2
            clear HR
            go_wp2_with (go_at_call 27; refine (ln _ _ _).out.mono ?_; rintro e w' ⟨rfl, rfl⟩)
            exact bodyPost_ret (v := .agg #[.int .i64 y, .int .i64 ((i : Int) + 1), .int .i64 (N - A - cum y i + 1)]) (by simp [results, Tryd.results19, go_sem]; try omega) rfl
              ⟨by rw [← hA], ((Below.refl _ _).alloc (Nat.le_refl _) _).alloc (by simp) _⟩
      · rw [hb] at LY
        simp at LY
        have dd : N - A < 366 := by omega
        go_wp2_with fail
        refine (l _ _).out.mono ?_
        rintro e w' ⟨rfl, rfl⟩
        rw [hb]
        go_wp2_with fail
        go_loopw [0] (fun s0 wr => ∃ (j : Nat) (r : Int), j ≤ k ∧ wr = (w.alloc (.cells #[.int .i64 0, .int .i64 0, .int .i64 0] 32)).alloc (.cells #[.int .i64 y, .int .i64 ((j : Int) + 1), .int .i64 1] 32) ∧ s0 = .int .i64 r ∧ Hid (r = N - A - cum y j) ∧ 0 ≤ r ∧ r ≤ 400) (fun s0 _ => (intOf s0).toNat)
        case atStart => exact ⟨0, _, Nat.zero_le _, rfl, rfl, hide (by simp [cum]), by omega, by omega⟩
        case round =>
          obtain ⟨i, r, hi2, rfl, rfl, HR, q1, q2⟩ := hrel
          obtain ⟨d1, d2⟩ := dim_bd y ((i : Int) + 1)
          by_cases hlt2 : i < k
          · have hge : dim y ((i : Int) + 1) ≤ r := by
              have := cum_mono y (show i + 1 ≤ k by omega)
              have e : cum y (i + 1) = cum y i + dim y ((i : Int) + 1) := rfl
              have := C12.out; have := HR.out; omega
            have dp : 1 ≤ dim y ((i : Int) + 1) := dim_ge1 y i Yb Yc (by omega)
            have HN : Hid (r - dim y ((i : Int) + 1) = N - A - cum y (i + 1)) := hide (by simp only [cum]; have := HR.out; omega)
            go_wp2_with (go_at_call 27; refine (ln _ _ _).out.mono ?_; rintro e w' ⟨rfl, rfl⟩)
            go_roundw
            case rel => exact ⟨i + 1, _, by omega, by go_num, rfl, HN, by omega, by omega⟩
            case measure => simp [intOf]; omega
          · obtain rfl : i = k := by omega
            have hlt3 : r < dim y ((i : Int) + 1) := by have := C2.out; simp only [cum] at this; have := HR.out; omega
            have hr2 := HR.out
            subst hr2
            clear HR
            go_wp2_with (go_at_call 27; refine (ln _ _ _).out.mono ?_; rintro e w' ⟨rfl, rfl⟩)
            exact bodyPost_ret (v := .agg #[.int .i64 y, .int .i64 ((i : Int) + 1), .int .i64 (N - A - cum y i + 1)]) (by simp [results, Tryd.results19, go_sem]; try omega) rfl
              ⟨by rw [← hA], ((Below.refl _ _).alloc (Nat.le_refl _) _).alloc (by simp) _⟩
end Go.Proofs.YtahfjhmgmpbmkacDoor
