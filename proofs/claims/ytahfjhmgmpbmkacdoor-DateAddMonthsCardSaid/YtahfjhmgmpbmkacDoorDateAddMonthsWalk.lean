/-
  The walk of DateAddMonths.
-/
import Derived.Test.YtahfjhmgmpbmkacDoorRefAm
namespace Go.Proofs.YtahfjhmgmpbmkacDoor
open Go.RowKit
set_option linter.unusedVariables false

theorem eom_no (n : Int) (w : World) (h : n < 0 ∨ 73048 < n) : Calls Tryd.prog 29 #[.int .i64 n] w fun e w' => e = .returned (.tuple #[.int .i64 0, .int .i64 2]) ∧ Below w.heap.size w w' := by
  have tc := fun W => hide (tc_no n W h)
  clear h
  go_enter Tryd.func29, Tryd.ntmps29
  go_wp2_with fail
  refine (tc _).out.mono ?_
  rintro e w1 ⟨rfl, hb⟩
  have HG := fun o => hide (hb.alloc hb.size o)
  clear hb
  go_wp2_with fail
  go_ret2
  exact ⟨rfl, (HG _).out⟩

set_option maxRecDepth 20000 in
theorem eom_in (n y : Int) (k : Nat) (w : World) (T : Tabs w) (h : InMonth n y k) :
    Calls Tryd.prog 29 #[.int .i64 n] w fun e w' => e = .returned (.tuple #[.int .i64 (NY y + cum y k + dim y ((k : Int) + 1) - 1), .int .i64 0]) ∧ Below w.heap.size w w' := by
  have tc := hide (tc_in n y k w T h)
  have dq := fun W T => hide (dim_any y ((k : Int) + 1) W T)
  have n1 : 0 ≤ n := by have := h.lo; have := ny_mono h.y1; rw [ny_2000] at this; omega
  have n2 : n ≤ 80000 := by have := h.hi; have := ny_bd (y + 1) (by have := h.y1; omega) (by have := h.y2; omega); omega
  have d1 : 1 ≤ n - NY y - cum y k + 1 := by have := h.c1; omega
  have d2 : n - NY y - cum y k + 1 ≤ 31 := by have := h.c2; have := (dim_bd y ((k : Int) + 1)).2; simp only [cum] at *; omega
  obtain ⟨l1, l2⟩ := dim_bd y ((k : Int) + 1)
  obtain ⟨D, hD⟩ : ∃ D, D = n - NY y - cum y k + 1 := ⟨_, rfl⟩
  obtain ⟨L, hL⟩ : ∃ L, L = dim y ((k : Int) + 1) := ⟨_, rfl⟩
  obtain ⟨M, hM⟩ : ∃ M, M = (k : Int) + 1 := ⟨_, rfl⟩
  have e : NY y + cum y k + dim y ((k : Int) + 1) - 1 = n + L - D := by omega
  rw [e]
  rw [← hD] at tc d1 d2
  rw [← hL] at dq l1 l2
  rw [← hM] at tc dq
  have HT := hide T
  clear hD hL hM e h T
  go_enter Tryd.func29, Tryd.ntmps29
  go_wp2_with fail
  refine tc.out.mono ?_
  rintro e w1 ⟨rfl, hb⟩
  have T1 := fun o => hide ((HT.out.keep hb).keep ((Below.refl _ _).alloc (Nat.le_refl _) o))
  have HG := fun o => hide (hb.alloc hb.size o)
  clear hb
  go_wp2_with fail
  go_quiet ((go_at_call 26; exact quiet_left ((dq _ ((T1 _).out.drewN _)).out)))
  go_wp2_with fail
  go_ret2
  exact ⟨rfl, below_drewN (HG _).out _⟩

set_option maxRecDepth 20000 in
theorem dateAddMonths_walk (a0 : Int) (a1 : Int) (w : World) (w0 : (Lit.int .i64 a0).wf = true) (w1 : (Lit.int .i64 a1).wf = true) (hL : laidMetH Tryd.prog laid w) :
    Calls Tryd.prog 6 #[.int .i64 a0, .int .i64 a1] w fun e w' => e = .returned (.bool true) ∧ Below w.heap.size w w' := by
  have T := tabs_of hL
  have kn := hide (known_any w T)
  have TT := hide T
  have dv := fun w => hide (day_any a0 w)
  clear T hL w0 w1
  generalize dayV a0 = n at *
  have rd := fun W => hide (rday_any n W)
  by_cases hr : 0 ≤ n ∧ n ≤ 73048
  · obtain ⟨n1, n2⟩ := hr
    have db := dayB_yes n1 n2
    rw [db] at rd
    obtain ⟨y, k, h⟩ := inMonth_ex n n1 n2
    have y1 := h.y1
    have y2 := h.y2
    have k12 := h.k12
    have hl := dim_ge1 y k y1 y2 k12
    have hl2 := (dim_bd y ((k : Int) + 1)).2
    have rto := fun W => hide (rto_in n y k W h)
    have eo := fun W T => hide (eom_in n y k W T h)
    have ln := fun W => hide (rlen_any y ((k : Int) + 1) W)
    have rf := fun W => hide (rfrom_in y (dim y ((k : Int) + 1)) k W y1 y2 k12 hl hl2)
    obtain ⟨b1, b2⟩ := mn_bd y k y1 y2 k12
    by_cases hin : 0 ≤ MN y k + a1 ∧ MN y k + a1 ≤ 2399
    · have am := fun W T => hide (am_in n a1 y k W T h (by omega) (by omega))
      have ra := fun W => hide (ram_near n a1 y k W h (by omega) (by omega))
      rw [if_pos hin, decide_eq_true hin] at ra
      clear h hin db n1 n2 y1 y2 k12 b1 b2
      generalize amD (MN y k + a1) (n - NY y - cum y k + 1) = V at *
      generalize n - NY y - cum y k + 1 = D at *
      generalize NY y + cum y k + dim y ((k : Int) + 1) - 1 = E at *
      generalize dim y ((k : Int) + 1) = L at *
      generalize (k : Int) + 1 = M at *
      go_enter Tryd.func6, Tryd.ntmps6
      go_wp2_with fail
      refine kn.out.mono ?_
      rintro e w1 ⟨rfl, hb⟩
      have HB1 := hide hb
      clear hb
      go_wp2_with fail
      refine (dv _).out.mono ?_
      rintro e w2 ⟨rfl, rfl⟩
      go_wp2_with fail
      refine (am _ (TT.out.keep HB1.out)).out.mono ?_
      rintro e w2 ⟨rfl, hb⟩
      have HB2 := hide (HB1.out.trans (hb.mono HB1.out.size))
      clear hb
      go_wp2_with fail
      refine (eo _ (TT.out.keep HB2.out)).out.mono ?_
      rintro e w3 ⟨rfl, hb⟩
      have HB3 := hide (HB2.out.trans (hb.mono HB2.out.size))
      clear hb
      go_wp2_with fail
      refine (rd _).out.mono ?_
      rintro e w4 ⟨rfl, rfl⟩
      go_wp2_with fail
      refine (rto _).out.mono ?_
      rintro e w4 ⟨rfl, hb⟩
      have HB4 := hide ((HB3.out.trans (hb.mono HB3.out.size)).alloc (HB3.out.trans (hb.mono HB3.out.size)).size (.cells #[.int .i64 y, .int .i64 M, .int .i64 L] 32))
      clear hb
      go_wp2_with fail
      refine (ln _).out.mono ?_
      rintro e w5 ⟨rfl, rfl⟩
      go_wp2_with fail
      refine (rf _).out.mono ?_
      rintro e w6 ⟨rfl, hb⟩
      have HB5 := hide (HB4.out.trans (hb.mono HB4.out.size))
      clear hb
      go_wp2_with fail
      refine (ra _).out.mono ?_
      rintro e w7 ⟨rfl, hb⟩
      have HB6 := hide (HB5.out.trans (hb.mono HB5.out.size))
      clear hb
      go_wp2_with fail
      go_ret
      exact ⟨rfl, HB6.out⟩
    · have am := fun W T => hide (am_range n a1 y k W T h (by omega))
      have ra : ∀ W, Hid (Calls Tryd.prog 30 #[.int .i64 n, .int .i64 a1] W fun e w' => e = .returned (.tuple #[.int .i64 0, .bool false]) ∧ Below W.heap.size W w') := fun W => by
        by_cases hf : 3000 < a1 ∨ a1 < -3000
        · exact hide ((ram_far n a1 W hf).mono fun e w' ⟨he, hw⟩ => ⟨he, hw ▸ Below.refl _ _⟩)
        · have := ram_near n a1 y k W h (by omega) (by omega)
          rw [if_neg hin, decide_eq_false hin] at this
          exact hide this
      clear h hin db n1 n2 y1 y2 k12 b1 b2
      generalize n - NY y - cum y k + 1 = D at *
      generalize NY y + cum y k + dim y ((k : Int) + 1) - 1 = E at *
      generalize dim y ((k : Int) + 1) = L at *
      generalize (k : Int) + 1 = M at *
      go_enter Tryd.func6, Tryd.ntmps6
      go_wp2_with fail
      refine kn.out.mono ?_
      rintro e w1 ⟨rfl, hb⟩
      have HB1 := hide hb
      clear hb
      go_wp2_with fail
      refine (dv _).out.mono ?_
      rintro e w2 ⟨rfl, rfl⟩
      go_wp2_with fail
      refine (am _ (TT.out.keep HB1.out)).out.mono ?_
      rintro e w2 ⟨rfl, hb⟩
      have HB2 := hide (HB1.out.trans (hb.mono HB1.out.size))
      clear hb
      go_wp2_with fail
      refine (eo _ (TT.out.keep HB2.out)).out.mono ?_
      rintro e w3 ⟨rfl, hb⟩
      have HB3 := hide (HB2.out.trans (hb.mono HB2.out.size))
      clear hb
      go_wp2_with fail
      refine (rd _).out.mono ?_
      rintro e w4 ⟨rfl, rfl⟩
      go_wp2_with fail
      refine (rto _).out.mono ?_
      rintro e w4 ⟨rfl, hb⟩
      have HB4 := hide ((HB3.out.trans (hb.mono HB3.out.size)).alloc (HB3.out.trans (hb.mono HB3.out.size)).size (.cells #[.int .i64 y, .int .i64 M, .int .i64 L] 32))
      clear hb
      go_wp2_with fail
      refine (ln _).out.mono ?_
      rintro e w5 ⟨rfl, rfl⟩
      go_wp2_with fail
      refine (rf _).out.mono ?_
      rintro e w6 ⟨rfl, hb⟩
      have HB5 := hide (HB4.out.trans (hb.mono HB4.out.size))
      clear hb
      go_wp2_with fail
      refine (ra _).out.mono ?_
      rintro e w7 ⟨rfl, hb⟩
      have HB6 := hide (HB5.out.trans (hb.mono HB5.out.size))
      clear hb
      go_wp2_with fail
      go_ret
      exact ⟨rfl, HB6.out⟩
  · have am := fun W => hide (am_no n a1 W (by omega))
    have eo := fun W => hide (eom_no n W (by omega))
    have db := dayB_no (n := n) (by omega)
    rw [db] at rd
    clear hr db
    go_enter Tryd.func6, Tryd.ntmps6
    go_wp2_with fail
    refine kn.out.mono ?_
    rintro e w1 ⟨rfl, hb⟩
    have HB1 := hide hb
    clear hb
    go_wp2_with fail
    refine (dv _).out.mono ?_
    rintro e w2 ⟨rfl, rfl⟩
    go_wp2_with fail
    refine (am _).out.mono ?_
    rintro e w2 ⟨rfl, hb⟩
    have HB2 := hide (HB1.out.trans (hb.mono HB1.out.size))
    clear hb
    go_wp2_with fail
    refine (eo _).out.mono ?_
    rintro e w3 ⟨rfl, hb⟩
    have HB3 := hide (HB2.out.trans (hb.mono HB2.out.size))
    clear hb
    go_wp2_with fail
    refine (rd _).out.mono ?_
    rintro e w4 ⟨rfl, rfl⟩
    go_wp2_with fail
    go_ret
    exact ⟨rfl, HB3.out⟩
end Go.Proofs.YtahfjhmgmpbmkacDoor
