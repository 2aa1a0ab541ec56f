/-
  Contracts of date.ISOWeek, monthNumber and AddMonths at this translation.
-/
import Derived.Test.YtahfjhmgmpbmkacDoorDa4
import Derived.StillTailTactics
import Derived.Deep.RegionHeld3
namespace Go.Proofs.YtahfjhmgmpbmkacDoor
open Go.RowKit
set_option linter.unusedVariables false

theorem Tabs.drew {w : World} (h : Tabs w) : Tabs w.drew := ⟨h.months, h.pows, h.size⟩
theorem bcell {W w1 : World} (hb : Below W.heap.size W w1) : (∀ b o, b < W.heap.size → w1.cell? ⟨b, o, none⟩ = W.cell? ⟨b, o, none⟩) ∧ (∀ b o, b < W.heap.size → w1.frozen? ⟨b, o, none⟩ = W.frozen? ⟨b, o, none⟩) :=
  ⟨fun b o h => hb.cell (p := ⟨b, o, none⟩) h, fun b o h => hb.frozen (p := ⟨b, o, none⟩) h⟩

theorem iso_in (n Y : Int) (w : World) (n1 : 0 ≤ n) (n2 : n ≤ 73048) (h1 : NY Y ≤ n - wkd n + 3) (h2 : n - wkd n + 3 < NY (Y + 1)) (y1 : 1999 ≤ Y) (y2 : Y ≤ 2200) :
    Calls Tryd.prog 33 #[.int .i64 n] w fun e w' => e = .returned (.tuple #[.int .i64 Y, .int .i64 ((n - wkd n + 3 - NY Y) / 7 + 1), .int .i64 0]) ∧ w = w' := by
  have v := fun w => hide (valid_any n w)
  have wk := fun w => hide (wkd_any n w)
  have hb := dayB_yes n1 n2
  have hw : wkd n = (n + 5) % 7 := by unfold wkd; rw [if_pos ⟨n1, n2⟩]
  have k1 : 0 ≤ wkd n := by rw [hw]; omega
  have k2 : wkd n ≤ 6 := by rw [hw]; omega
  have yo := fun w => hide (yearOf_any (n - wkd n + 3) Y w h1 h2 (by omega) (by omega) y1 y2)
  obtain ⟨b1, b2⟩ := ny_bd Y (by omega) (by omega)
  clear hw h2
  go_enter Tryd.func33, Tryd.ntmps33
  go_wp2_with fail
  refine (v _).out.mono ?_
  rintro e w' ⟨rfl, rfl⟩
  go_wp2_with fail
  refine (wk _).out.mono ?_
  rintro e w' ⟨rfl, rfl⟩
  go_wp2_with fail
  refine (yo _).out.mono ?_
  rintro e w' ⟨rfl, rfl⟩
  go_wp2_with (go_at_call 45; refine (ny_any _ _ (by omega) (by omega)).mono ?_; rintro e w' ⟨rfl, rfl⟩)
  go_ret3
  exact ⟨rfl, rfl⟩

theorem mn_any (y m d : Int) (w : World) (y1 : 0 ≤ y) (y2 : y ≤ 10000) (m1 : 0 ≤ m) (m2 : m ≤ 12) :
    Calls Tryd.prog 46 #[.agg #[.int .i64 y, .int .i64 m, .int .i64 d]] w fun e w' => e = .returned (.int .i64 ((y - 2000) * 12 + m - 1)) ∧ Below w.heap.size w w' := by
  go_enter Tryd.func46, Tryd.ntmps46
  go_wp2_with fail
  go_ret
  exact ⟨rfl, (Below.refl _ _).alloc (Nat.le_refl _) _⟩

/-- The number of a month, from the first one on. -/
def MN (y : Int) (k : Nat) : Int := (y - 2000) * 12 + (k : Int)
theorem mn_at (y : Int) (k : Nat) (d : Int) (w : World) (y1 : 2000 ≤ y) (y2 : y ≤ 2199) (hk : k < 12) :
    Calls Tryd.prog 46 #[.agg #[.int .i64 y, .int .i64 ((k : Int) + 1), .int .i64 d]] w fun e w' => e = .returned (.int .i64 (MN y k)) ∧ Below w.heap.size w w' := by
  refine (mn_any y ((k : Int) + 1) d w (by omega) (by omega) (by omega) (by omega)).mono ?_
  rintro e w' ⟨rfl, hb⟩
  exact ⟨ret_i (by unfold MN; omega), hb⟩
theorem mn_bd (y : Int) (k : Nat) (y1 : 2000 ≤ y) (y2 : y ≤ 2199) (hk : k < 12) : 0 ≤ MN y k ∧ MN y k ≤ 2399 := by unfold MN; omega
theorem mn_last (w : World) : Calls Tryd.prog 46 #[.agg #[.int .i64 2199, .int .i64 12, .int .i64 0]] w fun e w' => e = .returned (.int .i64 2399) ∧ Below w.heap.size w w' := by
  refine (mn_any 2199 12 0 w (by omega) (by omega) (by omega) (by omega)).mono ?_
  rintro e w' ⟨rfl, hb⟩
  exact ⟨ret_i (by omega), hb⟩

theorem am_no (n months : Int) (w : World) (h : n < 0 ∨ 73048 < n) : Calls Tryd.prog 28 #[.int .i64 n, .int .i64 months] w fun e w' => e = .returned (.tuple #[.int .i64 0, .int .i64 2]) ∧ Below w.heap.size w w' := by
  have c := fun w => hide (tc_no n w h)
  clear h
  go_enter Tryd.func28, Tryd.ntmps28
  go_wp2_with fail
  refine (c _).out.mono ?_
  rintro e w1 ⟨rfl, hb⟩
  have HB := hide hb
  clear hb
  go_wp2_with fail
  go_ret2
  exact ⟨rfl, HB.out.alloc HB.out.size _⟩

theorem am_range (n months y : Int) (k : Nat) (w : World) (T : Tabs w) (h : InMonth n y k) (hr : months < -(MN y k) ∨ 2399 - MN y k < months) :
    Calls Tryd.prog 28 #[.int .i64 n, .int .i64 months] w fun e w' => e = .returned (.tuple #[.int .i64 0, .int .i64 2]) ∧ Below w.heap.size w w' := by
  have c := fun w T => hide (tc_in n y k w T h)
  obtain ⟨y1, y2, _, _, k12, _, _⟩ := h
  have m1 := fun d w => hide (mn_at y k d w y1 y2 k12)
  have m2 := fun w => hide (mn_last w)
  obtain ⟨b1, b2⟩ := mn_bd y k y1 y2 k12
  rcases hr with hr | hr
  · go_enter Tryd.func28, Tryd.ntmps28
    go_wp2_with fail
    refine (c _ T).out.mono ?_
    rintro e w1 ⟨rfl, hb⟩
    have HB := hide hb
    clear hb
    go_wp2_with fail
    refine (m1 _ _).out.mono ?_
    rintro e w2 ⟨rfl, hb⟩
    obtain ⟨hc, hf⟩ := bcell hb
    have HB2 := hide ((HB.out.alloc HB.out.size _).trans (hb.mono (by have := HB.out.size; simp; omega)))
    have hz : w1.heap.size < w2.heap.size := by have := hb.size; simp at this; omega
    clear hb
    go_wp2_with fail
    refine (m2 _).out.mono ?_
    rintro e w3 ⟨rfl, hb⟩
    obtain ⟨hc3, hf3⟩ := bcell hb
    have HB3 := hide (HB2.out.trans (hb.mono HB2.out.size))
    have hz3 : w1.heap.size < w3.heap.size := Nat.lt_of_lt_of_le hz hb.size
    clear hb
    go_wp2_with fail
    go_ret2
    exact ⟨rfl, HB3.out⟩
  · have hr0 : ¬ months < -(MN y k) := by omega
    go_enter Tryd.func28, Tryd.ntmps28
    go_wp2_with fail
    refine (c _ T).out.mono ?_
    rintro e w1 ⟨rfl, hb⟩
    have HB := hide hb
    clear hb
    go_wp2_with fail
    refine (m1 _ _).out.mono ?_
    rintro e w2 ⟨rfl, hb⟩
    obtain ⟨hc, hf⟩ := bcell hb
    have HB2 := hide ((HB.out.alloc HB.out.size _).trans (hb.mono (by have := HB.out.size; simp; omega)))
    have hz : w1.heap.size < w2.heap.size := by have := hb.size; simp at this; omega
    clear hb
    go_wp2_with fail
    refine (m2 _).out.mono ?_
    rintro e w3 ⟨rfl, hb⟩
    obtain ⟨hc3, hf3⟩ := bcell hb
    have HB3 := hide (HB2.out.trans (hb.mono HB2.out.size))
    have hz3 : w1.heap.size < w3.heap.size := Nat.lt_of_lt_of_le hz hb.size
    clear hb
    go_wp2_with fail
    go_ret2
    exact ⟨rfl, HB3.out⟩

theorem dim_q (y m : Int) (w : World) (T : Tabs w) : Calls Tryd.prog 26 #[.int .i64 y, .int .i64 m] w fun e w' => e = .returned (.int .i64 (dim y m)) ∧ w' = w :=
  (dim_any y m w T).mono fun _ _ h => ⟨h.1, h.2.symm⟩

/-- The day that AddMonths comes to, from the month's number t and the day of the month D. -/
def amD (t D : Int) : Int := num (2000 + t / 12) (t % 12 + 1) (min D (dim (2000 + t / 12) (t % 12 + 1)))

theorem am_in (n months y : Int) (k : Nat) (w : World) (T : Tabs w) (h : InMonth n y k) (r1 : -(MN y k) ≤ months) (r2 : months ≤ 2399 - MN y k) :
    Calls Tryd.prog 28 #[.int .i64 n, .int .i64 months] w fun e w' => e = .returned (.tuple #[.int .i64 (amD (MN y k + months) (n - NY y - cum y k + 1)), .int .i64 0]) ∧ Below w.heap.size w w' := by
  have c1 := h.c1
  have c := fun w T => hide (tc_in n y k w T h)
  obtain ⟨y1, y2, _, _, k12, _, _⟩ := h
  have m1 := fun d w => hide (mn_at y k d w y1 y2 k12)
  have m2 := fun w => hide (mn_last w)
  obtain ⟨b1, b2⟩ := mn_bd y k y1 y2 k12
  go_enter Tryd.func28, Tryd.ntmps28
  go_wp2_with fail
  refine (c _ T).out.mono ?_
  rintro e w1 ⟨rfl, hb⟩
  have HB := hide hb
  clear hb
  go_wp2_with fail
  refine (m1 _ _).out.mono ?_
  rintro e w2 ⟨rfl, hb⟩
  obtain ⟨hc, hf⟩ := bcell hb
  have HB2 := hide ((HB.out.alloc HB.out.size _).trans (hb.mono (by have := HB.out.size; simp; omega)))
  have hz : w1.heap.size < w2.heap.size := by have := hb.size; simp at this; omega
  clear hb
  go_wp2_with fail
  refine (m2 _).out.mono ?_
  rintro e w3 ⟨rfl, hb⟩
  obtain ⟨hc3, hf3⟩ := bcell hb
  have HB3 := hide (HB2.out.trans (hb.mono HB2.out.size))
  have hz3 : w1.heap.size < w3.heap.size := Nat.lt_of_lt_of_le hz hb.size
  clear hb
  go_wp2_with fail
  obtain ⟨Y, hY⟩ : ∃ Y, Y = 2000 + (MN y k + months) / 12 := ⟨_, rfl⟩
  obtain ⟨M, hM⟩ : ∃ M, M = (MN y k + months) % 12 + 1 := ⟨_, rfl⟩
  obtain ⟨D, hD⟩ : ∃ D, D = n - NY y - cum y k + 1 := ⟨_, rfl⟩
  have dge : 1 ≤ dim Y M := by
    obtain ⟨j, hj⟩ : ∃ j : Nat, M = (j : Int) + 1 := ⟨(M - 1).toNat, by omega⟩
    rw [hj]; exact dim_ge1 Y j (by omega) (by omega) (by omega)
  have fin : ∀ w', Below w.heap.size w w' → (fun e w' => e = Ending.returned (.tuple #[.int .i64 (amD (MN y k + months) (n - NY y - cum y k + 1)), .int .i64 0]) ∧ Below w.heap.size w w') (.returned (.tuple #[.int .i64 (fcV Y M (min D (dim Y M))), .int .i64 (fcE Y M (min D (dim Y M)))])) w' := fun w' hb => by
    refine ⟨?_, hb⟩
    have hm : 1 ≤ min D (dim Y M) ∧ min D (dim Y M) ≤ dim Y M := by omega
    unfold fcV fcE
    rw [if_pos hm, if_pos hm, hY, hM, hD]; rfl
  have FIN := hide fin
  clear fin
  rw [← hY, ← hM]
  have c2 : w3.cell? ⟨w1.heap.size, 2, none⟩ = some (.int .i64 D) := by rw [hD]; simp [hc3, hc, hz, go_sem]
  have z2 : w3.frozen? ⟨w1.heap.size, 2, none⟩ = false := by simp [hf3, hf, hz, go_sem]
  obtain ⟨W, hW⟩ : ∃ W, W = (w3.setCell ⟨w1.heap.size, 0, none⟩ (.int .i64 Y)).setCell ⟨w1.heap.size, 1, none⟩ (.int .i64 M) := ⟨_, rfl⟩
  rw [← hW]
  have f0 : W.cell? ⟨w1.heap.size, 0, none⟩ = some (.int .i64 Y) := by rw [hW]; simp [hc3, hc, hz, go_sem]
  have f1 : W.cell? ⟨w1.heap.size, 1, none⟩ = some (.int .i64 M) := by rw [hW]; simp [hc3, hc, hz, go_sem]
  have f2 : W.cell? ⟨w1.heap.size, 2, none⟩ = some (.int .i64 D) := by rw [hW]; simp [c2, go_sem]
  have g2 : W.frozen? ⟨w1.heap.size, 2, none⟩ = false := by rw [hW]; simp [z2, go_sem]
  have BW : Below w.heap.size w W := by rw [hW]; exact (HB3.out.setCell HB.out.size _).setCell HB.out.size _
  have TW := T.keep BW
  have HBW := hide BW
  have hbl := HB.out.size
  clear hc hf hc3 hf3 c2 z2 hW BW hY hM hD
  go_still_tail 9, (by kernel_rfl)
  still_call (dim_q Y M W.drew TW.drew)
  repeat still_step
  refine wpStill_nil ?_
  have f0' : W.drew.cell? ⟨w1.heap.size, 0, none⟩ = some (.int .i64 Y) := f0
  have f1' : W.drew.cell? ⟨w1.heap.size, 1, none⟩ = some (.int .i64 M) := f1
  have g2' : W.drew.frozen? ⟨w1.heap.size, 2, none⟩ = false := g2
  have f2' : W.drew.cell? ⟨w1.heap.size, 2, none⟩ = some (.int .i64 D) := f2
  have BW' : Hid (Below w.heap.size w W.drew) := hide HBW.out.drew
  clear f0 f1 f2 g2 TW HBW
  change wpList _ _ _ _ _ W.drew
  generalize W.drew = W2 at *
  go_wp2_with fail
  refine (fc_any Y M (min D (dim Y M)) _ (T.keep (BW'.out.setCell hbl _))).mono ?_
  rintro e w5 ⟨rfl, hb⟩
  have HB5 := hide ((BW'.out.setCell hbl _).trans (hb.mono (BW'.out.setCell hbl _).size))
  clear hb
  go_wp2_with fail
  go_ret2
  exact FIN.out _ HB5.out
end Go.Proofs.YtahfjhmgmpbmkacDoor
