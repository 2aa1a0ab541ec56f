/-
  Contracts of date.monthsUntil and MonthsBetween at this translation, for a day that is not before the other.
-/
import Derived.Test.YtahfjhmgmpbmkacDoorDa5
import Derived.Deep.CutBlock
import Derived.Deep.DeepCutAuto
namespace Go.Proofs.YtahfjhmgmpbmkacDoor
open Go.RowKit
set_option linter.unusedVariables false

theorem mn_x (y : Int) (k : Nat) (d : Int) (w : World) (y1 : 2000 ≤ y) (y2 : y ≤ 2199) (hk : k < 12) :
    Calls Tryd.prog 46 #[.agg #[.int .i64 y, .int .i64 ((k : Int) + 1), .int .i64 d]] w fun e w' => e = .returned (.int .i64 (MN y k)) ∧ w.alloc (.cells #[.int .i64 y, .int .i64 ((k : Int) + 1), .int .i64 d] 26) = w' := by
  have F : Hid (Ending.returned (.int .i64 ((y - 2000) * 12 + ((k : Int) + 1) - 1)) = Ending.returned (.int .i64 (MN y k))) := hide (ret_i (by unfold MN; omega))
  go_enter Tryd.func46, Tryd.ntmps46
  go_wp2_with fail
  go_ret
  exact ⟨F.out, rfl⟩

/-- What monthsUntil answers, from the month's numbers, the day that AddMonths comes to, and the later day. -/
def muV (a b moved last : Int) : Int := if last < moved then b - a - 1 else b - a

theorem below_two {w W : World} (h : Below w.heap.size w W) (o o' : Obj) : Below w.heap.size w ((W.alloc o).alloc o').drew :=
  ((h.alloc h.size o).alloc (by have := h.size; simp; omega) o').drew

set_option maxHeartbeats 4000000 in
theorem mu_in (n1 n2 y1 y2 : Int) (k1 k2 : Nat) (w : World) (T : Tabs w) (h1 : InMonth n1 y1 k1) (h2 : InMonth n2 y2 k2) (hle : MN y1 k1 ≤ MN y2 k2) :
    Calls Tryd.prog 47 #[.int .i64 n1, .int .i64 n2] w fun e w' => e = .returned (.tuple #[.int .i64 (muV (MN y1 k1) (MN y2 k2) (amD (MN y2 k2) (n1 - NY y1 - cum y1 k1 + 1)) n2), .int .i64 0]) ∧ Below w.heap.size w w' := by
  have c1 := fun w T => hide (tc_in n1 y1 k1 w T h1)
  have c2 := fun w T => hide (tc_in n2 y2 k2 w T h2)
  obtain ⟨b1, b2⟩ := mn_bd y1 k1 h1.y1 h1.y2 h1.k12
  obtain ⟨b3, b4⟩ := mn_bd y2 k2 h2.y1 h2.y2 h2.k12
  have m1 := fun d w => hide (mn_x y1 k1 d w h1.y1 h1.y2 h1.k12)
  have m2 := fun d w => hide (mn_x y2 k2 d w h2.y1 h2.y2 h2.k12)
  have em : MN y1 k1 + (MN y2 k2 - MN y1 k1) = MN y2 k2 := by omega
  have am : ∀ w, Tabs w → Hid (Calls Tryd.prog 28 #[.int .i64 n1, .int .i64 (MN y2 k2 - MN y1 k1)] w fun e w' => e = .returned (.tuple #[.int .i64 (amD (MN y2 k2) (n1 - NY y1 - cum y1 k1 + 1)), .int .i64 0]) ∧ Below w.heap.size w w') := fun w T => by
    have h := am_in n1 (MN y2 k2 - MN y1 k1) y1 k1 w T h1 (by omega) (by omega)
    rw [em] at h
    exact hide h
  clear em
  obtain ⟨D1, hD1⟩ : ∃ D, D = n1 - NY y1 - cum y1 k1 + 1 := ⟨_, rfl⟩
  obtain ⟨D2, hD2⟩ : ∃ D, D = n2 - NY y2 - cum y2 k2 + 1 := ⟨_, rfl⟩
  simp only [← hD1, ← hD2] at c1 c2 am ⊢
  obtain ⟨A, hA⟩ : ∃ A, A = amD (MN y2 k2) D1 := ⟨_, rfl⟩
  simp only [← hA] at am ⊢
  clear hA hD1 hD2 h1 h2
  go_enter Tryd.func47, Tryd.ntmps47
  go_wp2_with fail
  refine (c1 _ T).out.mono ?_
  rintro e w1 ⟨rfl, hb⟩
  have HB := hide hb
  have HB1 := hide (hb.alloc hb.size (.cells #[.int .i64 y1, .int .i64 ((k1 : Int) + 1), .int .i64 D1] 26))
  clear hb
  go_wp2_with fail
  refine (c2 _ (T.keep HB1.out)).out.mono ?_
  rintro e w2 ⟨rfl, hb⟩
  obtain ⟨hc, hf⟩ := bcell hb
  have HB2 := hide (HB1.out.trans (hb.mono HB1.out.size))
  have hz : w1.heap.size < w2.heap.size := by have := hb.size; simp at this; omega
  clear hb
  have q0 : w2.cell? ⟨w1.heap.size, 0, none⟩ = some (.int .i64 y1) := by simp [hc, go_sem]
  have q1 : w2.cell? ⟨w1.heap.size, 1, none⟩ = some (.int .i64 ((k1 : Int) + 1)) := by simp [hc, go_sem]
  have q2 : w2.cell? ⟨w1.heap.size, 2, none⟩ = some (.int .i64 D1) := by simp [hc, go_sem]
  clear hc hf
  go_upto_region 7 with fail
  go_cut [9] (fun s9 wx => s9 = .int .i64 (MN y2 k2 - MN y1 k1) ∧ Hid (Below w.heap.size w wx))
  case first =>
    have BX := hide (HB2.out.alloc HB2.out.size (.cells #[.int .i64 y2, .int .i64 ((k2 : Int) + 1), .int .i64 D2] 26))
    have r0 : (w2.alloc (.cells #[.int .i64 y2, .int .i64 ((k2 : Int) + 1), .int .i64 D2] 26)).cell? ⟨w1.heap.size, 0, none⟩ = some (.int .i64 y1) := by simp [q0, hz, go_sem]
    have r1 : (w2.alloc (.cells #[.int .i64 y2, .int .i64 ((k2 : Int) + 1), .int .i64 D2] 26)).cell? ⟨w1.heap.size, 1, none⟩ = some (.int .i64 ((k1 : Int) + 1)) := by simp [q1, hz, go_sem]
    have r2 : (w2.alloc (.cells #[.int .i64 y2, .int .i64 ((k2 : Int) + 1), .int .i64 D2] 26)).cell? ⟨w1.heap.size, 2, none⟩ = some (.int .i64 D1) := by simp [q2, hz, go_sem]
    have r3 : (w2.alloc (.cells #[.int .i64 y2, .int .i64 ((k2 : Int) + 1), .int .i64 D2] 26)).cell? ⟨w2.heap.size, 0, none⟩ = some (.int .i64 y2) := by simp [go_sem]
    have r4 : (w2.alloc (.cells #[.int .i64 y2, .int .i64 ((k2 : Int) + 1), .int .i64 D2] 26)).cell? ⟨w2.heap.size, 1, none⟩ = some (.int .i64 ((k2 : Int) + 1)) := by simp [go_sem]
    have r5 : (w2.alloc (.cells #[.int .i64 y2, .int .i64 ((k2 : Int) + 1), .int .i64 D2] 26)).cell? ⟨w2.heap.size, 2, none⟩ = some (.int .i64 D2) := by simp [go_sem]
    have r6 : w1.heap.size < (w2.alloc (.cells #[.int .i64 y2, .int .i64 ((k2 : Int) + 1), .int .i64 D2] 26)).heap.size := by simp; omega
    have r7 : w2.heap.size < (w2.alloc (.cells #[.int .i64 y2, .int .i64 ((k2 : Int) + 1), .int .i64 D2] 26)).heap.size := by simp
    generalize w2.alloc (.cells #[.int .i64 y2, .int .i64 ((k2 : Int) + 1), .int .i64 D2] 26) = W at *
    have M1 := fun w => m1 D1 w
    have M2 := fun w => m2 D2 w
    clear m1 m2 c1 c2 am
    go_region_with (go_at_call 46; first | ((with_reducible refine (M2 _).out.mono ?_); rintro e w' ⟨rfl, rfl⟩) | ((with_reducible refine (M1 _).out.mono ?_); rintro e w' ⟨rfl, rfl⟩))
    all_goals
      go_wp2_with fail
      go_meet
      case rel => exact ⟨by rw [IntWalk.i64_in _ (by omega)], hide (below_two BX.out _ _)⟩
  case rest =>
    obtain ⟨rfl, BX⟩ := hcut
    by_cases hgt : n2 < A
    · have F : Hid (Ending.returned (.tuple #[.int .i64 (MN y2 k2 - MN y1 k1 - 1), .int .i64 0]) = Ending.returned (.tuple #[.int .i64 (muV (MN y1 k1) (MN y2 k2) A n2), .int .i64 0])) := hide (ret_ii (by unfold muV; rw [if_pos hgt]) rfl)
      go_wp2_with fail
      refine (am _ (T.keep BX.out)).out.mono ?_
      rintro e w5 ⟨rfl, hb⟩
      have HB5 := hide (BX.out.trans (hb.mono BX.out.size))
      clear hb
      go_wp2_with fail
      go_ret2
      exact ⟨F.out, HB5.out⟩
    · have F : Hid (Ending.returned (.tuple #[.int .i64 (MN y2 k2 - MN y1 k1), .int .i64 0]) = Ending.returned (.tuple #[.int .i64 (muV (MN y1 k1) (MN y2 k2) A n2), .int .i64 0])) := hide (ret_ii (by unfold muV; rw [if_neg hgt]) rfl)
      go_wp2_with fail
      refine (am _ (T.keep BX.out)).out.mono ?_
      rintro e w5 ⟨rfl, hb⟩
      have HB5 := hide (BX.out.trans (hb.mono BX.out.size))
      clear hb
      go_wp2_with fail
      go_ret2
      exact ⟨F.out, HB5.out⟩

/-- date.MonthsBetween, for a first day that is not after the second. -/
theorem mb_in (n1 n2 y1 y2 : Int) (k1 k2 : Nat) (w : World) (T : Tabs w) (h1 : InMonth n1 y1 k1) (h2 : InMonth n2 y2 k2) (hle : MN y1 k1 ≤ MN y2 k2) (hn : n1 ≤ n2) :
    Calls Tryd.prog 31 #[.int .i64 n1, .int .i64 n2] w fun e w' => e = .returned (.tuple #[.int .i64 (muV (MN y1 k1) (MN y2 k2) (amD (MN y2 k2) (n1 - NY y1 - cum y1 k1 + 1)) n2), .int .i64 0]) ∧ Below w.heap.size w w' := by
  have c := hide (mu_in n1 n2 y1 y2 k1 k2 w T h1 h2 hle)
  clear h1 h2
  go_enter Tryd.func31, Tryd.ntmps31
  go_wp2_with fail
  refine c.out.mono ?_
  rintro e w1 ⟨rfl, hb⟩
  have HB := hide hb
  clear hb
  go_wp2_with fail
  go_ret2
  exact ⟨rfl, HB.out⟩
end Go.Proofs.YtahfjhmgmpbmkacDoor
