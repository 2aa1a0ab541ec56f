/-
  The walk of the statement AmountMonotone: MulDiv is monotone for a numerator that is not negative, and Floor is superadditive within one unit.
-/
import Derived.Test.YtahfjhmgmpbmkaaDoorAmountNegationWalk
namespace Go.Proofs.YtahfjhmgmpbmkaaDoor
open Go.RowKit
set_option linter.unusedVariables false

/-- The rounded quotient in terms of the quotient rounded down, F, and the nonnegative remainder, R. -/
def modeQ (X F R den mode : Int) : Int :=
  if mode = 0 then F else if mode = 1 then (if 0 < R then F + 1 else F) else if mode = 2 then (if 2 * R < den then F else if den < 2 * R then F + 1 else if F % 2 = 0 then F else F + 1)
  else if X < 0 ∧ 0 < R then F + 1 else F

theorem mdQ_pos (X s t den mode : Int) (m1 : 0 ≤ mode) (m2 : mode ≤ 3) (hX : 0 ≤ X) (t1 : 0 ≤ t) (t2 : t < den) : rnd false s t den mode = modeQ X s t den mode := by
  have h : mode = 0 ∨ mode = 1 ∨ mode = 2 ∨ mode = 3 := by omega
  rcases h with rfl | rfl | rfl | rfl <;> simp [rnd, upB, modeQ] <;> (repeat' split) <;> omega

theorem mdQ_neg (X s t den mode : Int) (m1 : 0 ≤ mode) (m2 : mode ≤ 3) (hX : X < 0 ∨ t = 0) (t1 : 0 ≤ t) (t2 : t < den) :
    rnd true s t den mode = modeQ X (if 0 < t then -(s + 1) else -s) (if 0 < t then den - t else 0) den mode := by
  have h : mode = 0 ∨ mode = 1 ∨ mode = 2 ∨ mode = 3 := by omega
  rcases h with rfl | rfl | rfl | rfl <;> simp [rnd, upB, modeQ] <;> (repeat' split) <;> omega

/-- MulDiv's quotient, by the exact product. -/
theorem mdQ_is (x num den mode : Int) (m1 : 0 ≤ mode) (m2 : mode ≤ 3) (d1 : 1 ≤ den) : mdQ x num den mode = modeQ (x * num) (x * num / den) (x * num % den) den mode := by
  have t1 : 0 ≤ absP x num % den := Int.emod_nonneg _ (by omega)
  have t2 : absP x num % den < den := Int.emod_lt_of_pos _ (by omega)
  have hs := Int.mul_ediv_add_emod (absP x num) den
  have hp := absP_nonneg x num
  unfold mdQ
  cases hn : negB x num
  · have hX : x * num = absP x num := by
      unfold negB at hn
      unfold absP
      by_cases hx : x < 0
      · by_cases hm : num < 0
        · have e1 : (x.natAbs : Int) = -x := by omega
          have e2 : (num.natAbs : Int) = -num := by omega
          rw [e1, e2, Int.neg_mul_neg]
        · simp [hx, hm] at hn
      · by_cases hm : num < 0
        · simp [hx, hm] at hn
        · have e1 : (x.natAbs : Int) = x := by omega
          have e2 : (num.natAbs : Int) = num := by omega
          rw [e1, e2]
    rw [hX]
    exact mdQ_pos _ _ _ _ _ m1 m2 hp t1 t2
  · have hX : x * num = -(absP x num) := by
      unfold negB at hn
      unfold absP
      by_cases hx : x < 0
      · by_cases hm : num < 0
        · simp [hx, hm] at hn
        · have e1 : (x.natAbs : Int) = -x := by omega
          have e2 : (num.natAbs : Int) = num := by omega
          rw [e1, e2, Int.neg_mul, Int.neg_neg]
      · by_cases hm : num < 0
        · have e1 : (x.natAbs : Int) = x := by omega
          have e2 : (num.natAbs : Int) = -num := by omega
          rw [e1, e2, Int.mul_neg, Int.neg_neg]
        · simp [hx, hm] at hn
    have key : (if 0 < absP x num % den then -(absP x num / den + 1) else -(absP x num / den)) = x * num / den ∧ (if 0 < absP x num % den then den - absP x num % den else 0) = x * num % den := by
      refine quo_is (by omega) ?_ ?_ ?_
      · rw [hX]
        split
        · rw [Int.neg_mul, Int.add_mul, Int.one_mul, Int.mul_comm _ den]; omega
        · rw [Int.neg_mul, Int.mul_comm _ den]; omega
      · split <;> omega
      · split <;> omega
    rw [mdQ_neg (x * num) _ _ _ _ m1 m2 ?_ t1 t2, key.1, key.2]
    rw [hX]
    by_cases h0 : absP x num = 0
    · right; rw [h0]; simp
    · left; omega

theorem modeQ_mono {X Y F G R S den mode : Int} (m1 : 0 ≤ mode) (m2 : mode ≤ 3) (d1 : 1 ≤ den) (hXY : X ≤ Y) (hFG : F ≤ G) (hRS : F = G → R ≤ S) (r1 : 0 ≤ R) (r2 : R < den) (s1 : 0 ≤ S) (s2 : S < den)
    (hF : X < 0 ↔ F < 0) (hG : Y < 0 ↔ G < 0) : modeQ X F R den mode ≤ modeQ Y G S den mode := by
  have h : mode = 0 ∨ mode = 1 ∨ mode = 2 ∨ mode = 3 := by omega
  rcases h with rfl | rfl | rfl | rfl <;> simp [modeQ] <;> (repeat' split) <;> omega

theorem ediv_sign (X den : Int) (d1 : 1 ≤ den) : X < 0 ↔ X / den < 0 := by
  constructor
  · intro h; exact Int.ediv_neg_of_neg_of_pos h (by omega)
  · intro h
    apply Classical.byContradiction
    intro hc
    have := Int.ediv_nonneg (show 0 ≤ X by omega) (show 0 ≤ den by omega)
    omega

/-- Rounding is monotone. -/
theorem mdQ_mono (x y num den mode : Int) (m1 : 0 ≤ mode) (m2 : mode ≤ 3) (d1 : 1 ≤ den) (hn : 0 ≤ num) (hxy : x ≤ y) : mdQ x num den mode ≤ mdQ y num den mode := by
  rw [mdQ_is x num den mode m1 m2 d1, mdQ_is y num den mode m1 m2 d1]
  have hXY : x * num ≤ y * num := Int.mul_le_mul_of_nonneg_right hxy hn
  have e1 := Int.mul_ediv_add_emod (x * num) den
  have e2 := Int.mul_ediv_add_emod (y * num) den
  refine modeQ_mono m1 m2 d1 hXY (Int.ediv_le_ediv (by omega) hXY) (fun h => ?_) (Int.emod_nonneg _ (by omega)) (Int.emod_lt_of_pos _ (by omega)) (Int.emod_nonneg _ (by omega)) (Int.emod_lt_of_pos _ (by omega)) (ediv_sign _ _ d1) (ediv_sign _ _ d1)
  rw [h] at e1; omega

/-- Rounding down is superadditive within one unit. -/
theorem mdQ_super (x y num den : Int) (d1 : 1 ≤ den) : mdQ x num den 0 + mdQ y num den 0 ≤ mdQ (x + y) num den 0 ∧ mdQ (x + y) num den 0 ≤ mdQ x num den 0 + mdQ y num den 0 + 1 := by
  rw [mdQ_is x num den 0 (by decide) (by decide) d1, mdQ_is y num den 0 (by decide) (by decide) d1, mdQ_is (x + y) num den 0 (by decide) (by decide) d1]
  simp only [modeQ, if_true]
  have e1 := Int.mul_ediv_add_emod (x * num) den
  have e2 := Int.mul_ediv_add_emod (y * num) den
  have a1 := Int.emod_nonneg (x * num) (show den ≠ 0 by omega)
  have a2 := Int.emod_lt_of_pos (x * num) (show 0 < den by omega)
  have b1 := Int.emod_nonneg (y * num) (show den ≠ 0 by omega)
  have b2 := Int.emod_lt_of_pos (y * num) (show 0 < den by omega)
  have e : (x + y) * num = (x * num % den + y * num % den) + den * (x * num / den + y * num / den) := by
    rw [Int.add_mul, Int.mul_add]; omega
  rw [e, Int.add_mul_ediv_left _ _ (by omega)]
  have c1 : 0 ≤ (x * num % den + y * num % den) / den := Int.ediv_nonneg (by omega) (by omega)
  have c2 : (x * num % den + y * num % den) / den < 2 := Int.ediv_lt_of_lt_mul (by omega) (by omega)
  omega

/-- A number that MulDiv accepts. -/
theorem mdE_accept {x num den m : Int} (h : mdE x num den m = 0) : 0 ≤ m ∧ m ≤ 3 ∧ okArgs x num den := by
  by_cases hm : m < 0 ∨ 3 < m
  · have := mdE_mode x num den m hm; omega
  · by_cases ha : okArgs x num den
    · exact ⟨by omega, by omega, ha⟩
    · have := mdE_args x num den m (by omega) (by omega) ha; omega

theorem sumE2_ok {x y : Int} (h : sumE [x, y] = 0) : sumV [x, y] = x + y := by rw [sumV_ok _ h, tot2]
theorem sumV_ok2 (zs : List Int) : okA (sumV zs) := by
  unfold sumV
  split
  · next h =>
    unfold sumE at h
    split at h
    · split at h
      · assumption
      · omega
    · omega
  · unfold okA; omega

set_option maxHeartbeats 4000000 in
theorem amountMonotone_walk (a0 : Int) (a1 : Int) (a2 : Int) (a3 : Int) (a4 : Int) (w : World) (w0 : (Lit.int .i64 a0).wf = true) (w1 : (Lit.int .i64 a1).wf = true) (w2 : (Lit.int .i64 a2).wf = true) (w3 : (Lit.int .i64 a3).wf = true) (w4 : (Lit.int .i64 a4).wf = true) :
    Calls Tryd.prog 10 #[.int .i64 a0, .int .i64 a1, .int .i64 a2, .int .i64 a3, .int .i64 a4] w fun e w' => e = .returned (.bool true) ∧ Below w.heap.size w w' := by
  have hd : a3 < 18446744073709551616 := by have := (wf_bounds w3).2; omega
  have kn := fun w => hide (known_any w)
  clear w0 w1 w2 w3 w4
  by_cases hn : a2 < 0
  · go_enter Tryd.func10, Tryd.ntmps10
    go_wp2_with fail
    refine (kn _).out.mono ?_
    rintro e w1 ⟨rfl, hb⟩
    have HB1 := hide (hb)
    clear hb
    go_wp2_with fail
    go_ret
    exact ⟨rfl, HB1.out⟩
  · have c1 := fun w => hide (muldiv_any a0 a2 a3 a4 w (divFor_any _ _ _ hd))
    have c2 := fun w => hide (muldiv_any a1 a2 a3 a4 w (divFor_any _ _ _ hd))
    have c3 := fun w => hide (add_any a0 a1 w)
    have c4 := fun w => hide (muldiv_any (sumV [a0, a1]) a2 a3 0 w (divFor_any _ _ _ hd))
    have c5 := fun w => hide (muldiv_any a0 a2 a3 0 w (divFor_any _ _ _ hd))
    have c6 := fun w => hide (muldiv_any a1 a2 a3 0 w (divFor_any _ _ _ hd))
    obtain ⟨p1, p2⟩ := mdV_ok2 a0 a2 a3 a4
    obtain ⟨p3, p4⟩ := mdV_ok2 a1 a2 a3 a4
    obtain ⟨p5, p6⟩ := mdV_ok2 (sumV [a0, a1]) a2 a3 0
    obtain ⟨p7, p8⟩ := mdV_ok2 a0 a2 a3 0
    obtain ⟨p9, p10⟩ := mdV_ok2 a1 a2 a3 0
    clear hd
    by_cases E1 : mdE a0 a2 a3 a4 = 0
    · have b1 : (mdE a0 a2 a3 a4 != 0) = false := by simpa using E1
      by_cases E2 : mdE a1 a2 a3 a4 = 0
      · have b2 : (mdE a1 a2 a3 a4 != 0) = false := by simpa using E2
        obtain ⟨m1, m2, ha⟩ := mdE_accept E1
        have M1 : a0 ≤ a1 → mdV a0 a2 a3 a4 ≤ mdV a1 a2 a3 a4 := fun h => by rw [mdV_ok _ _ _ _ E1, mdV_ok _ _ _ _ E2]; exact mdQ_mono _ _ _ _ _ m1 m2 ha.2.2.1 (by omega) h
        have M2 : a1 ≤ a0 → mdV a1 a2 a3 a4 ≤ mdV a0 a2 a3 a4 := fun h => by rw [mdV_ok _ _ _ _ E1, mdV_ok _ _ _ _ E2]; exact mdQ_mono _ _ _ _ _ m1 m2 ha.2.2.1 (by omega) h
        have main : (mdE (sumV [a0, a1]) a2 a3 0 = 0 → mdE a0 a2 a3 0 = 0 → mdE a1 a2 a3 0 = 0 → sumE [a0, a1] = 0 → mdV a0 a2 a3 0 + mdV a1 a2 a3 0 ≤ mdV (sumV [a0, a1]) a2 a3 0 ∧ mdV (sumV [a0, a1]) a2 a3 0 ≤ mdV a0 a2 a3 0 + mdV a1 a2 a3 0 + 1) := fun H I J G => by
          have h := mdQ_super a0 a1 a2 a3 ha.2.2.1
          rw [mdV_ok _ _ _ _ H, mdV_ok _ _ _ _ I, mdV_ok _ _ _ _ J, sumE2_ok G]
          exact h
        have MAIN := hide main
        clear main E1 E2
        by_cases hxy : a0 ≤ a1
        · have M3 := M1 hxy
          by_cases hyx : a1 ≤ a0
          · have M4 := M2 hyx
            clear M1 M2
            by_cases G : sumE [a0, a1] = 0
            · have g1 : (sumE [a0, a1] != 0) = false := by simpa using G
              by_cases H : mdE (sumV [a0, a1]) a2 a3 0 = 0
              · have g2 : (mdE (sumV [a0, a1]) a2 a3 0 != 0) = false := by simpa using H
                by_cases I : mdE a0 a2 a3 0 = 0
                · have g3 : (mdE a0 a2 a3 0 != 0) = false := by simpa using I
                  by_cases J : mdE a1 a2 a3 0 = 0
                  · have g4 : (mdE a1 a2 a3 0 != 0) = false := by simpa using J
                    obtain ⟨s1, s2⟩ := MAIN.out H I J G
                    clear G H I J
                    go_enter Tryd.func10, Tryd.ntmps10
                    go_wp2_with fail
                    refine (c1 _).out.mono ?_
                    rintro e w1 ⟨rfl, hb⟩
                    have HB1 := hide (hb)
                    clear hb
                    go_wp2_with fail
                    refine (c2 _).out.mono ?_
                    rintro e w2 ⟨rfl, hb⟩
                    have HB2 := hide (HB1.out.trans (hb.mono HB1.out.size))
                    clear hb
                    go_wp2_with fail
                    refine (c3 _).out.mono ?_
                    rintro e w3 ⟨rfl, hb⟩
                    have HB3 := hide (HB2.out.trans (hb.mono HB2.out.size))
                    clear hb
                    go_wp2_with fail
                    refine (c4 _).out.mono ?_
                    rintro e w4 ⟨rfl, hb⟩
                    have HB4 := hide (HB3.out.trans (hb.mono HB3.out.size))
                    clear hb
                    go_wp2_with fail
                    refine (c5 _).out.mono ?_
                    rintro e w5 ⟨rfl, hb⟩
                    have HB5 := hide (HB4.out.trans (hb.mono HB4.out.size))
                    clear hb
                    go_wp2_with fail
                    refine (c6 _).out.mono ?_
                    rintro e w6 ⟨rfl, hb⟩
                    have HB6 := hide (HB5.out.trans (hb.mono HB5.out.size))
                    clear hb
                    go_wp2_with fail
                    refine (kn _).out.mono ?_
                    rintro e w7 ⟨rfl, hb⟩
                    have HB7 := hide (HB6.out.trans (hb.mono HB6.out.size))
                    clear hb
                    go_wp2_with fail
                    go_ret
                    exact ⟨rfl, HB7.out⟩
                  · have g4 : (mdE a1 a2 a3 0 != 0) = true := by simpa using J
                    clear G H I J
                    go_enter Tryd.func10, Tryd.ntmps10
                    go_wp2_with fail
                    refine (c1 _).out.mono ?_
                    rintro e w1 ⟨rfl, hb⟩
                    have HB1 := hide (hb)
                    clear hb
                    go_wp2_with fail
                    refine (c2 _).out.mono ?_
                    rintro e w2 ⟨rfl, hb⟩
                    have HB2 := hide (HB1.out.trans (hb.mono HB1.out.size))
                    clear hb
                    go_wp2_with fail
                    refine (c3 _).out.mono ?_
                    rintro e w3 ⟨rfl, hb⟩
                    have HB3 := hide (HB2.out.trans (hb.mono HB2.out.size))
                    clear hb
                    go_wp2_with fail
                    refine (c4 _).out.mono ?_
                    rintro e w4 ⟨rfl, hb⟩
                    have HB4 := hide (HB3.out.trans (hb.mono HB3.out.size))
                    clear hb
                    go_wp2_with fail
                    refine (c5 _).out.mono ?_
                    rintro e w5 ⟨rfl, hb⟩
                    have HB5 := hide (HB4.out.trans (hb.mono HB4.out.size))
                    clear hb
                    go_wp2_with fail
                    refine (c6 _).out.mono ?_
                    rintro e w6 ⟨rfl, hb⟩
                    have HB6 := hide (HB5.out.trans (hb.mono HB5.out.size))
                    clear hb
                    go_wp2_with fail
                    refine (kn _).out.mono ?_
                    rintro e w7 ⟨rfl, hb⟩
                    have HB7 := hide (HB6.out.trans (hb.mono HB6.out.size))
                    clear hb
                    go_wp2_with fail
                    go_ret
                    exact ⟨rfl, HB7.out⟩
                · have g3 : (mdE a0 a2 a3 0 != 0) = true := by simpa using I
                  clear G H I
                  go_enter Tryd.func10, Tryd.ntmps10
                  go_wp2_with fail
                  refine (c1 _).out.mono ?_
                  rintro e w1 ⟨rfl, hb⟩
                  have HB1 := hide (hb)
                  clear hb
                  go_wp2_with fail
                  refine (c2 _).out.mono ?_
                  rintro e w2 ⟨rfl, hb⟩
                  have HB2 := hide (HB1.out.trans (hb.mono HB1.out.size))
                  clear hb
                  go_wp2_with fail
                  refine (c3 _).out.mono ?_
                  rintro e w3 ⟨rfl, hb⟩
                  have HB3 := hide (HB2.out.trans (hb.mono HB2.out.size))
                  clear hb
                  go_wp2_with fail
                  refine (c4 _).out.mono ?_
                  rintro e w4 ⟨rfl, hb⟩
                  have HB4 := hide (HB3.out.trans (hb.mono HB3.out.size))
                  clear hb
                  go_wp2_with fail
                  refine (c5 _).out.mono ?_
                  rintro e w5 ⟨rfl, hb⟩
                  have HB5 := hide (HB4.out.trans (hb.mono HB4.out.size))
                  clear hb
                  go_wp2_with fail
                  refine (c6 _).out.mono ?_
                  rintro e w6 ⟨rfl, hb⟩
                  have HB6 := hide (HB5.out.trans (hb.mono HB5.out.size))
                  clear hb
                  go_wp2_with fail
                  refine (kn _).out.mono ?_
                  rintro e w7 ⟨rfl, hb⟩
                  have HB7 := hide (HB6.out.trans (hb.mono HB6.out.size))
                  clear hb
                  go_wp2_with fail
                  go_ret
                  exact ⟨rfl, HB7.out⟩
              · have g2 : (mdE (sumV [a0, a1]) a2 a3 0 != 0) = true := by simpa using H
                clear G H
                go_enter Tryd.func10, Tryd.ntmps10
                go_wp2_with fail
                refine (c1 _).out.mono ?_
                rintro e w1 ⟨rfl, hb⟩
                have HB1 := hide (hb)
                clear hb
                go_wp2_with fail
                refine (c2 _).out.mono ?_
                rintro e w2 ⟨rfl, hb⟩
                have HB2 := hide (HB1.out.trans (hb.mono HB1.out.size))
                clear hb
                go_wp2_with fail
                refine (c3 _).out.mono ?_
                rintro e w3 ⟨rfl, hb⟩
                have HB3 := hide (HB2.out.trans (hb.mono HB2.out.size))
                clear hb
                go_wp2_with fail
                refine (c4 _).out.mono ?_
                rintro e w4 ⟨rfl, hb⟩
                have HB4 := hide (HB3.out.trans (hb.mono HB3.out.size))
                clear hb
                go_wp2_with fail
                refine (c5 _).out.mono ?_
                rintro e w5 ⟨rfl, hb⟩
                have HB5 := hide (HB4.out.trans (hb.mono HB4.out.size))
                clear hb
                go_wp2_with fail
                refine (c6 _).out.mono ?_
                rintro e w6 ⟨rfl, hb⟩
                have HB6 := hide (HB5.out.trans (hb.mono HB5.out.size))
                clear hb
                go_wp2_with fail
                refine (kn _).out.mono ?_
                rintro e w7 ⟨rfl, hb⟩
                have HB7 := hide (HB6.out.trans (hb.mono HB6.out.size))
                clear hb
                go_wp2_with fail
                go_ret
                exact ⟨rfl, HB7.out⟩
            · have g1 : (sumE [a0, a1] != 0) = true := by simpa using G
              clear G
              go_enter Tryd.func10, Tryd.ntmps10
              go_wp2_with fail
              refine (c1 _).out.mono ?_
              rintro e w1 ⟨rfl, hb⟩
              have HB1 := hide (hb)
              clear hb
              go_wp2_with fail
              refine (c2 _).out.mono ?_
              rintro e w2 ⟨rfl, hb⟩
              have HB2 := hide (HB1.out.trans (hb.mono HB1.out.size))
              clear hb
              go_wp2_with fail
              refine (c3 _).out.mono ?_
              rintro e w3 ⟨rfl, hb⟩
              have HB3 := hide (HB2.out.trans (hb.mono HB2.out.size))
              clear hb
              go_wp2_with fail
              refine (c4 _).out.mono ?_
              rintro e w4 ⟨rfl, hb⟩
              have HB4 := hide (HB3.out.trans (hb.mono HB3.out.size))
              clear hb
              go_wp2_with fail
              refine (c5 _).out.mono ?_
              rintro e w5 ⟨rfl, hb⟩
              have HB5 := hide (HB4.out.trans (hb.mono HB4.out.size))
              clear hb
              go_wp2_with fail
              refine (c6 _).out.mono ?_
              rintro e w6 ⟨rfl, hb⟩
              have HB6 := hide (HB5.out.trans (hb.mono HB5.out.size))
              clear hb
              go_wp2_with fail
              refine (kn _).out.mono ?_
              rintro e w7 ⟨rfl, hb⟩
              have HB7 := hide (HB6.out.trans (hb.mono HB6.out.size))
              clear hb
              go_wp2_with fail
              go_ret
              exact ⟨rfl, HB7.out⟩
          · clear M1 M2
            by_cases G : sumE [a0, a1] = 0
            · have g1 : (sumE [a0, a1] != 0) = false := by simpa using G
              by_cases H : mdE (sumV [a0, a1]) a2 a3 0 = 0
              · have g2 : (mdE (sumV [a0, a1]) a2 a3 0 != 0) = false := by simpa using H
                by_cases I : mdE a0 a2 a3 0 = 0
                · have g3 : (mdE a0 a2 a3 0 != 0) = false := by simpa using I
                  by_cases J : mdE a1 a2 a3 0 = 0
                  · have g4 : (mdE a1 a2 a3 0 != 0) = false := by simpa using J
                    obtain ⟨s1, s2⟩ := MAIN.out H I J G
                    clear G H I J
                    go_enter Tryd.func10, Tryd.ntmps10
                    go_wp2_with fail
                    refine (c1 _).out.mono ?_
                    rintro e w1 ⟨rfl, hb⟩
                    have HB1 := hide (hb)
                    clear hb
                    go_wp2_with fail
                    refine (c2 _).out.mono ?_
                    rintro e w2 ⟨rfl, hb⟩
                    have HB2 := hide (HB1.out.trans (hb.mono HB1.out.size))
                    clear hb
                    go_wp2_with fail
                    refine (c3 _).out.mono ?_
                    rintro e w3 ⟨rfl, hb⟩
                    have HB3 := hide (HB2.out.trans (hb.mono HB2.out.size))
                    clear hb
                    go_wp2_with fail
                    refine (c4 _).out.mono ?_
                    rintro e w4 ⟨rfl, hb⟩
                    have HB4 := hide (HB3.out.trans (hb.mono HB3.out.size))
                    clear hb
                    go_wp2_with fail
                    refine (c5 _).out.mono ?_
                    rintro e w5 ⟨rfl, hb⟩
                    have HB5 := hide (HB4.out.trans (hb.mono HB4.out.size))
                    clear hb
                    go_wp2_with fail
                    refine (c6 _).out.mono ?_
                    rintro e w6 ⟨rfl, hb⟩
                    have HB6 := hide (HB5.out.trans (hb.mono HB5.out.size))
                    clear hb
                    go_wp2_with fail
                    refine (kn _).out.mono ?_
                    rintro e w7 ⟨rfl, hb⟩
                    have HB7 := hide (HB6.out.trans (hb.mono HB6.out.size))
                    clear hb
                    go_wp2_with fail
                    go_ret
                    exact ⟨rfl, HB7.out⟩
                  · have g4 : (mdE a1 a2 a3 0 != 0) = true := by simpa using J
                    clear G H I J
                    go_enter Tryd.func10, Tryd.ntmps10
                    go_wp2_with fail
                    refine (c1 _).out.mono ?_
                    rintro e w1 ⟨rfl, hb⟩
                    have HB1 := hide (hb)
                    clear hb
                    go_wp2_with fail
                    refine (c2 _).out.mono ?_
                    rintro e w2 ⟨rfl, hb⟩
                    have HB2 := hide (HB1.out.trans (hb.mono HB1.out.size))
                    clear hb
                    go_wp2_with fail
                    refine (c3 _).out.mono ?_
                    rintro e w3 ⟨rfl, hb⟩
                    have HB3 := hide (HB2.out.trans (hb.mono HB2.out.size))
                    clear hb
                    go_wp2_with fail
                    refine (c4 _).out.mono ?_
                    rintro e w4 ⟨rfl, hb⟩
                    have HB4 := hide (HB3.out.trans (hb.mono HB3.out.size))
                    clear hb
                    go_wp2_with fail
                    refine (c5 _).out.mono ?_
                    rintro e w5 ⟨rfl, hb⟩
                    have HB5 := hide (HB4.out.trans (hb.mono HB4.out.size))
                    clear hb
                    go_wp2_with fail
                    refine (c6 _).out.mono ?_
                    rintro e w6 ⟨rfl, hb⟩
                    have HB6 := hide (HB5.out.trans (hb.mono HB5.out.size))
                    clear hb
                    go_wp2_with fail
                    refine (kn _).out.mono ?_
                    rintro e w7 ⟨rfl, hb⟩
                    have HB7 := hide (HB6.out.trans (hb.mono HB6.out.size))
                    clear hb
                    go_wp2_with fail
                    go_ret
                    exact ⟨rfl, HB7.out⟩
                · have g3 : (mdE a0 a2 a3 0 != 0) = true := by simpa using I
                  clear G H I
                  go_enter Tryd.func10, Tryd.ntmps10
                  go_wp2_with fail
                  refine (c1 _).out.mono ?_
                  rintro e w1 ⟨rfl, hb⟩
                  have HB1 := hide (hb)
                  clear hb
                  go_wp2_with fail
                  refine (c2 _).out.mono ?_
                  rintro e w2 ⟨rfl, hb⟩
                  have HB2 := hide (HB1.out.trans (hb.mono HB1.out.size))
                  clear hb
                  go_wp2_with fail
                  refine (c3 _).out.mono ?_
                  rintro e w3 ⟨rfl, hb⟩
                  have HB3 := hide (HB2.out.trans (hb.mono HB2.out.size))
                  clear hb
                  go_wp2_with fail
                  refine (c4 _).out.mono ?_
                  rintro e w4 ⟨rfl, hb⟩
                  have HB4 := hide (HB3.out.trans (hb.mono HB3.out.size))
                  clear hb
                  go_wp2_with fail
                  refine (c5 _).out.mono ?_
                  rintro e w5 ⟨rfl, hb⟩
                  have HB5 := hide (HB4.out.trans (hb.mono HB4.out.size))
                  clear hb
                  go_wp2_with fail
                  refine (c6 _).out.mono ?_
                  rintro e w6 ⟨rfl, hb⟩
                  have HB6 := hide (HB5.out.trans (hb.mono HB5.out.size))
                  clear hb
                  go_wp2_with fail
                  refine (kn _).out.mono ?_
                  rintro e w7 ⟨rfl, hb⟩
                  have HB7 := hide (HB6.out.trans (hb.mono HB6.out.size))
                  clear hb
                  go_wp2_with fail
                  go_ret
                  exact ⟨rfl, HB7.out⟩
              · have g2 : (mdE (sumV [a0, a1]) a2 a3 0 != 0) = true := by simpa using H
                clear G H
                go_enter Tryd.func10, Tryd.ntmps10
                go_wp2_with fail
                refine (c1 _).out.mono ?_
                rintro e w1 ⟨rfl, hb⟩
                have HB1 := hide (hb)
                clear hb
                go_wp2_with fail
                refine (c2 _).out.mono ?_
                rintro e w2 ⟨rfl, hb⟩
                have HB2 := hide (HB1.out.trans (hb.mono HB1.out.size))
                clear hb
                go_wp2_with fail
                refine (c3 _).out.mono ?_
                rintro e w3 ⟨rfl, hb⟩
                have HB3 := hide (HB2.out.trans (hb.mono HB2.out.size))
                clear hb
                go_wp2_with fail
                refine (c4 _).out.mono ?_
                rintro e w4 ⟨rfl, hb⟩
                have HB4 := hide (HB3.out.trans (hb.mono HB3.out.size))
                clear hb
                go_wp2_with fail
                refine (c5 _).out.mono ?_
                rintro e w5 ⟨rfl, hb⟩
                have HB5 := hide (HB4.out.trans (hb.mono HB4.out.size))
                clear hb
                go_wp2_with fail
                refine (c6 _).out.mono ?_
                rintro e w6 ⟨rfl, hb⟩
                have HB6 := hide (HB5.out.trans (hb.mono HB5.out.size))
                clear hb
                go_wp2_with fail
                refine (kn _).out.mono ?_
                rintro e w7 ⟨rfl, hb⟩
                have HB7 := hide (HB6.out.trans (hb.mono HB6.out.size))
                clear hb
                go_wp2_with fail
                go_ret
                exact ⟨rfl, HB7.out⟩
            · have g1 : (sumE [a0, a1] != 0) = true := by simpa using G
              clear G
              go_enter Tryd.func10, Tryd.ntmps10
              go_wp2_with fail
              refine (c1 _).out.mono ?_
              rintro e w1 ⟨rfl, hb⟩
              have HB1 := hide (hb)
              clear hb
              go_wp2_with fail
              refine (c2 _).out.mono ?_
              rintro e w2 ⟨rfl, hb⟩
              have HB2 := hide (HB1.out.trans (hb.mono HB1.out.size))
              clear hb
              go_wp2_with fail
              refine (c3 _).out.mono ?_
              rintro e w3 ⟨rfl, hb⟩
              have HB3 := hide (HB2.out.trans (hb.mono HB2.out.size))
              clear hb
              go_wp2_with fail
              refine (c4 _).out.mono ?_
              rintro e w4 ⟨rfl, hb⟩
              have HB4 := hide (HB3.out.trans (hb.mono HB3.out.size))
              clear hb
              go_wp2_with fail
              refine (c5 _).out.mono ?_
              rintro e w5 ⟨rfl, hb⟩
              have HB5 := hide (HB4.out.trans (hb.mono HB4.out.size))
              clear hb
              go_wp2_with fail
              refine (c6 _).out.mono ?_
              rintro e w6 ⟨rfl, hb⟩
              have HB6 := hide (HB5.out.trans (hb.mono HB5.out.size))
              clear hb
              go_wp2_with fail
              refine (kn _).out.mono ?_
              rintro e w7 ⟨rfl, hb⟩
              have HB7 := hide (HB6.out.trans (hb.mono HB6.out.size))
              clear hb
              go_wp2_with fail
              go_ret
              exact ⟨rfl, HB7.out⟩
        · have hyx : a1 ≤ a0 := by omega
          have M4 := M2 hyx
          clear M1 M2
          by_cases G : sumE [a0, a1] = 0
          · have g1 : (sumE [a0, a1] != 0) = false := by simpa using G
            by_cases H : mdE (sumV [a0, a1]) a2 a3 0 = 0
            · have g2 : (mdE (sumV [a0, a1]) a2 a3 0 != 0) = false := by simpa using H
              by_cases I : mdE a0 a2 a3 0 = 0
              · have g3 : (mdE a0 a2 a3 0 != 0) = false := by simpa using I
                by_cases J : mdE a1 a2 a3 0 = 0
                · have g4 : (mdE a1 a2 a3 0 != 0) = false := by simpa using J
                  obtain ⟨s1, s2⟩ := MAIN.out H I J G
                  clear G H I J
                  go_enter Tryd.func10, Tryd.ntmps10
                  go_wp2_with fail
                  refine (c1 _).out.mono ?_
                  rintro e w1 ⟨rfl, hb⟩
                  have HB1 := hide (hb)
                  clear hb
                  go_wp2_with fail
                  refine (c2 _).out.mono ?_
                  rintro e w2 ⟨rfl, hb⟩
                  have HB2 := hide (HB1.out.trans (hb.mono HB1.out.size))
                  clear hb
                  go_wp2_with fail
                  refine (c3 _).out.mono ?_
                  rintro e w3 ⟨rfl, hb⟩
                  have HB3 := hide (HB2.out.trans (hb.mono HB2.out.size))
                  clear hb
                  go_wp2_with fail
                  refine (c4 _).out.mono ?_
                  rintro e w4 ⟨rfl, hb⟩
                  have HB4 := hide (HB3.out.trans (hb.mono HB3.out.size))
                  clear hb
                  go_wp2_with fail
                  refine (c5 _).out.mono ?_
                  rintro e w5 ⟨rfl, hb⟩
                  have HB5 := hide (HB4.out.trans (hb.mono HB4.out.size))
                  clear hb
                  go_wp2_with fail
                  refine (c6 _).out.mono ?_
                  rintro e w6 ⟨rfl, hb⟩
                  have HB6 := hide (HB5.out.trans (hb.mono HB5.out.size))
                  clear hb
                  go_wp2_with fail
                  refine (kn _).out.mono ?_
                  rintro e w7 ⟨rfl, hb⟩
                  have HB7 := hide (HB6.out.trans (hb.mono HB6.out.size))
                  clear hb
                  go_wp2_with fail
                  go_ret
                  exact ⟨rfl, HB7.out⟩
                · have g4 : (mdE a1 a2 a3 0 != 0) = true := by simpa using J
                  clear G H I J
                  go_enter Tryd.func10, Tryd.ntmps10
                  go_wp2_with fail
                  refine (c1 _).out.mono ?_
                  rintro e w1 ⟨rfl, hb⟩
                  have HB1 := hide (hb)
                  clear hb
                  go_wp2_with fail
                  refine (c2 _).out.mono ?_
                  rintro e w2 ⟨rfl, hb⟩
                  have HB2 := hide (HB1.out.trans (hb.mono HB1.out.size))
                  clear hb
                  go_wp2_with fail
                  refine (c3 _).out.mono ?_
                  rintro e w3 ⟨rfl, hb⟩
                  have HB3 := hide (HB2.out.trans (hb.mono HB2.out.size))
                  clear hb
                  go_wp2_with fail
                  refine (c4 _).out.mono ?_
                  rintro e w4 ⟨rfl, hb⟩
                  have HB4 := hide (HB3.out.trans (hb.mono HB3.out.size))
                  clear hb
                  go_wp2_with fail
                  refine (c5 _).out.mono ?_
                  rintro e w5 ⟨rfl, hb⟩
                  have HB5 := hide (HB4.out.trans (hb.mono HB4.out.size))
                  clear hb
                  go_wp2_with fail
                  refine (c6 _).out.mono ?_
                  rintro e w6 ⟨rfl, hb⟩
                  have HB6 := hide (HB5.out.trans (hb.mono HB5.out.size))
                  clear hb
                  go_wp2_with fail
                  refine (kn _).out.mono ?_
                  rintro e w7 ⟨rfl, hb⟩
                  have HB7 := hide (HB6.out.trans (hb.mono HB6.out.size))
                  clear hb
                  go_wp2_with fail
                  go_ret
                  exact ⟨rfl, HB7.out⟩
              · have g3 : (mdE a0 a2 a3 0 != 0) = true := by simpa using I
                clear G H I
                go_enter Tryd.func10, Tryd.ntmps10
                go_wp2_with fail
                refine (c1 _).out.mono ?_
                rintro e w1 ⟨rfl, hb⟩
                have HB1 := hide (hb)
                clear hb
                go_wp2_with fail
                refine (c2 _).out.mono ?_
                rintro e w2 ⟨rfl, hb⟩
                have HB2 := hide (HB1.out.trans (hb.mono HB1.out.size))
                clear hb
                go_wp2_with fail
                refine (c3 _).out.mono ?_
                rintro e w3 ⟨rfl, hb⟩
                have HB3 := hide (HB2.out.trans (hb.mono HB2.out.size))
                clear hb
                go_wp2_with fail
                refine (c4 _).out.mono ?_
                rintro e w4 ⟨rfl, hb⟩
                have HB4 := hide (HB3.out.trans (hb.mono HB3.out.size))
                clear hb
                go_wp2_with fail
                refine (c5 _).out.mono ?_
                rintro e w5 ⟨rfl, hb⟩
                have HB5 := hide (HB4.out.trans (hb.mono HB4.out.size))
                clear hb
                go_wp2_with fail
                refine (c6 _).out.mono ?_
                rintro e w6 ⟨rfl, hb⟩
                have HB6 := hide (HB5.out.trans (hb.mono HB5.out.size))
                clear hb
                go_wp2_with fail
                refine (kn _).out.mono ?_
                rintro e w7 ⟨rfl, hb⟩
                have HB7 := hide (HB6.out.trans (hb.mono HB6.out.size))
                clear hb
                go_wp2_with fail
                go_ret
                exact ⟨rfl, HB7.out⟩
            · have g2 : (mdE (sumV [a0, a1]) a2 a3 0 != 0) = true := by simpa using H
              clear G H
              go_enter Tryd.func10, Tryd.ntmps10
              go_wp2_with fail
              refine (c1 _).out.mono ?_
              rintro e w1 ⟨rfl, hb⟩
              have HB1 := hide (hb)
              clear hb
              go_wp2_with fail
              refine (c2 _).out.mono ?_
              rintro e w2 ⟨rfl, hb⟩
              have HB2 := hide (HB1.out.trans (hb.mono HB1.out.size))
              clear hb
              go_wp2_with fail
              refine (c3 _).out.mono ?_
              rintro e w3 ⟨rfl, hb⟩
              have HB3 := hide (HB2.out.trans (hb.mono HB2.out.size))
              clear hb
              go_wp2_with fail
              refine (c4 _).out.mono ?_
              rintro e w4 ⟨rfl, hb⟩
              have HB4 := hide (HB3.out.trans (hb.mono HB3.out.size))
              clear hb
              go_wp2_with fail
              refine (c5 _).out.mono ?_
              rintro e w5 ⟨rfl, hb⟩
              have HB5 := hide (HB4.out.trans (hb.mono HB4.out.size))
              clear hb
              go_wp2_with fail
              refine (c6 _).out.mono ?_
              rintro e w6 ⟨rfl, hb⟩
              have HB6 := hide (HB5.out.trans (hb.mono HB5.out.size))
              clear hb
              go_wp2_with fail
              refine (kn _).out.mono ?_
              rintro e w7 ⟨rfl, hb⟩
              have HB7 := hide (HB6.out.trans (hb.mono HB6.out.size))
              clear hb
              go_wp2_with fail
              go_ret
              exact ⟨rfl, HB7.out⟩
          · have g1 : (sumE [a0, a1] != 0) = true := by simpa using G
            clear G
            go_enter Tryd.func10, Tryd.ntmps10
            go_wp2_with fail
            refine (c1 _).out.mono ?_
            rintro e w1 ⟨rfl, hb⟩
            have HB1 := hide (hb)
            clear hb
            go_wp2_with fail
            refine (c2 _).out.mono ?_
            rintro e w2 ⟨rfl, hb⟩
            have HB2 := hide (HB1.out.trans (hb.mono HB1.out.size))
            clear hb
            go_wp2_with fail
            refine (c3 _).out.mono ?_
            rintro e w3 ⟨rfl, hb⟩
            have HB3 := hide (HB2.out.trans (hb.mono HB2.out.size))
            clear hb
            go_wp2_with fail
            refine (c4 _).out.mono ?_
            rintro e w4 ⟨rfl, hb⟩
            have HB4 := hide (HB3.out.trans (hb.mono HB3.out.size))
            clear hb
            go_wp2_with fail
            refine (c5 _).out.mono ?_
            rintro e w5 ⟨rfl, hb⟩
            have HB5 := hide (HB4.out.trans (hb.mono HB4.out.size))
            clear hb
            go_wp2_with fail
            refine (c6 _).out.mono ?_
            rintro e w6 ⟨rfl, hb⟩
            have HB6 := hide (HB5.out.trans (hb.mono HB5.out.size))
            clear hb
            go_wp2_with fail
            refine (kn _).out.mono ?_
            rintro e w7 ⟨rfl, hb⟩
            have HB7 := hide (HB6.out.trans (hb.mono HB6.out.size))
            clear hb
            go_wp2_with fail
            go_ret
            exact ⟨rfl, HB7.out⟩
      · have b2 : (mdE a1 a2 a3 a4 != 0) = true := by simpa using E2
        clear E1 E2
        go_enter Tryd.func10, Tryd.ntmps10
        go_wp2_with fail
        refine (c1 _).out.mono ?_
        rintro e w1 ⟨rfl, hb⟩
        have HB1 := hide (hb)
        clear hb
        go_wp2_with fail
        refine (c2 _).out.mono ?_
        rintro e w2 ⟨rfl, hb⟩
        have HB2 := hide (HB1.out.trans (hb.mono HB1.out.size))
        clear hb
        go_wp2_with fail
        refine (kn _).out.mono ?_
        rintro e w3 ⟨rfl, hb⟩
        have HB3 := hide (HB2.out.trans (hb.mono HB2.out.size))
        clear hb
        go_wp2_with fail
        go_ret
        exact ⟨rfl, HB3.out⟩
    · have b1 : (mdE a0 a2 a3 a4 != 0) = true := by simpa using E1
      clear E1
      go_enter Tryd.func10, Tryd.ntmps10
      go_wp2_with fail
      refine (c1 _).out.mono ?_
      rintro e w1 ⟨rfl, hb⟩
      have HB1 := hide (hb)
      clear hb
      go_wp2_with fail
      refine (c2 _).out.mono ?_
      rintro e w2 ⟨rfl, hb⟩
      have HB2 := hide (HB1.out.trans (hb.mono HB1.out.size))
      clear hb
      go_wp2_with fail
      refine (kn _).out.mono ?_
      rintro e w3 ⟨rfl, hb⟩
      have HB3 := hide (HB2.out.trans (hb.mono HB2.out.size))
      clear hb
      go_wp2_with fail
      go_ret
      exact ⟨rfl, HB3.out⟩
end Go.Proofs.YtahfjhmgmpbmkaaDoor
