/-
  The walk of the statement AmountNegation: Floor and Ceil are exchanged by negation, HalfEven and Down are symmetric.
-/
import Derived.Test.YtahfjhmgmpbmkaaDoorAmountMulDivWalk
namespace Go.Proofs.YtahfjhmgmpbmkaaDoor
open Go.RowKit

/-- The mode that takes a mode's place when the sign is turned. -/
def opp (m : Int) : Int := if m = 0 then 1 else if m = 1 then 0 else m

theorem rnd_opp (neg : Bool) (s t den m : Int) (m1 : 0 ≤ m) (m2 : m ≤ 3) : rnd (!neg) s t den (opp m) = -(rnd neg s t den m) := by
  have h : m = 0 ∨ m = 1 ∨ m = 2 ∨ m = 3 := by omega
  rcases h with rfl | rfl | rfl | rfl <;> cases neg <;> simp [rnd, upB, opp]
theorem rnd_zero0 (neg : Bool) (den m : Int) : rnd neg 0 0 den m = 0 := by cases neg <;> simp [rnd, upB]

theorem absP_neg (x num : Int) : absP (-x) num = absP x num := by unfold absP; simp
theorem okA_neg {x : Int} : okA (-x) ↔ okA x := by unfold okA; omega
theorem mdQ_opp (x num den m : Int) (m1 : 0 ≤ m) (m2 : m ≤ 3) : mdQ (-x) num den (opp m) = -(mdQ x num den m) := by
  unfold mdQ
  rw [absP_neg]
  by_cases hx : x = 0
  · subst hx
    have : absP 0 num = 0 := by simp [absP]
    rw [this]
    simp [rnd_zero0]
  · have hn : negB (-x) num = !(negB x num) := by
      unfold negB
      by_cases h : x < 0
      · rw [decide_eq_false (show ¬ -x < 0 by omega), decide_eq_true h]; cases decide (num < 0) <;> rfl
      · rw [decide_eq_true (show -x < 0 by omega), decide_eq_false h]; cases decide (num < 0) <;> rfl
    rw [hn, rnd_opp _ _ _ _ _ m1 m2]
theorem opp_bd (m : Int) (m1 : 0 ≤ m) (m2 : m ≤ 3) : 0 ≤ opp m ∧ opp m ≤ 3 := by unfold opp; split <;> (try split) <;> omega
theorem mdE_opp (x num den m : Int) (m1 : 0 ≤ m) (m2 : m ≤ 3) : mdE (-x) num den (opp m) = mdE x num den m := by
  obtain ⟨o1, o2⟩ := opp_bd m m1 m2
  have ha : okArgs (-x) num den ↔ okArgs x num den := by unfold okArgs; rw [okA_neg]
  have hq : okA (mdQ (-x) num den (opp m)) ↔ okA (mdQ x num den m) := by rw [mdQ_opp x num den m m1 m2, okA_neg]
  unfold mdE
  rw [if_neg (show ¬ (opp m < 0 ∨ 3 < opp m) by omega), if_neg (show ¬ (m < 0 ∨ 3 < m) by omega)]
  simp only [ha, hq]
theorem mdV_opp (x num den m : Int) (m1 : 0 ≤ m) (m2 : m ≤ 3) : mdV (-x) num den (opp m) = -(mdV x num den m) := by
  unfold mdV
  rw [mdE_opp x num den m m1 m2, mdQ_opp x num den m m1 m2]
  split <;> simp
theorem mdV_ok2 (x num den m : Int) : okA (mdV x num den m) := by
  unfold mdV
  split
  · next h =>
    unfold mdE at h
    split at h
    · omega
    · split at h
      · split at h
        · assumption
        · omega
      · omega
  · unfold okA; omega

/-- MulDiv of the turned number, by the mode that takes the mode's place. -/
theorem muldiv_opp (x num den m : Int) (w : World) (m1 : 0 ≤ m) (m2 : m ≤ 3) (hd : den < 18446744073709551616) :
    Calls Tryd.prog 22 #[.int .i64 (-x), .int .i64 num, .int .i64 den, .int .i64 (opp m)] w fun e w' => e = .returned (.tuple #[.int .i64 (-(mdV x num den m)), .int .i64 (mdE x num den m)]) ∧ Below w.heap.size w w' := by
  have h := muldiv_any (-x) num den (opp m) w (divFor_any _ _ _ hd)
  rwa [mdV_opp x num den m m1 m2, mdE_opp x num den m m1 m2] at h

set_option maxHeartbeats 1000000 in
theorem amountNegation_walk (a0 : Int) (a1 : Int) (a2 : Int) (w : World) (_w0 : (Lit.int .i64 a0).wf = true) (_w1 : (Lit.int .i64 a1).wf = true) (w2 : (Lit.int .i64 a2).wf = true) :
    Calls Tryd.prog 9 #[.int .i64 a0, .int .i64 a1, .int .i64 a2] w fun e w' => e = .returned (.bool true) ∧ Below w.heap.size w w' := by
  have hd := (wf_bounds w2).2
  have kn := fun w => hide (known_any w)
  have va := fun w => hide (valid_any a0 w)
  by_cases hx : okA a0
  · have bx := okB_yes hx
    obtain ⟨x1, x2⟩ := hx
    have c0 := fun w => hide (muldiv_any a0 a1 a2 0 w (divFor_any a0 a1 a2 (by omega)))
    have d0 : ∀ w, Hid (Calls Tryd.prog 22 #[.int .i64 (-a0), .int .i64 a1, .int .i64 a2, .int .i64 1] w fun e w' => e = .returned (.tuple #[.int .i64 (-(mdV a0 a1 a2 0)), .int .i64 (mdE a0 a1 a2 0)]) ∧ Below w.heap.size w w') := fun w => hide (muldiv_opp a0 a1 a2 0 w (by decide) (by decide) (by omega))
    have v0 := mdV_ok2 a0 a1 a2 0
    obtain ⟨e0, f0⟩ := v0
    have c1 := fun w => hide (muldiv_any a0 a1 a2 1 w (divFor_any a0 a1 a2 (by omega)))
    have d1 : ∀ w, Hid (Calls Tryd.prog 22 #[.int .i64 (-a0), .int .i64 a1, .int .i64 a2, .int .i64 0] w fun e w' => e = .returned (.tuple #[.int .i64 (-(mdV a0 a1 a2 1)), .int .i64 (mdE a0 a1 a2 1)]) ∧ Below w.heap.size w w') := fun w => hide (muldiv_opp a0 a1 a2 1 w (by decide) (by decide) (by omega))
    have v1 := mdV_ok2 a0 a1 a2 1
    obtain ⟨e1, f1⟩ := v1
    have c2 := fun w => hide (muldiv_any a0 a1 a2 2 w (divFor_any a0 a1 a2 (by omega)))
    have d2 : ∀ w, Hid (Calls Tryd.prog 22 #[.int .i64 (-a0), .int .i64 a1, .int .i64 a2, .int .i64 2] w fun e w' => e = .returned (.tuple #[.int .i64 (-(mdV a0 a1 a2 2)), .int .i64 (mdE a0 a1 a2 2)]) ∧ Below w.heap.size w w') := fun w => hide (muldiv_opp a0 a1 a2 2 w (by decide) (by decide) (by omega))
    have v2 := mdV_ok2 a0 a1 a2 2
    obtain ⟨e2, f2⟩ := v2
    have c3 := fun w => hide (muldiv_any a0 a1 a2 3 w (divFor_any a0 a1 a2 (by omega)))
    have d3 : ∀ w, Hid (Calls Tryd.prog 22 #[.int .i64 (-a0), .int .i64 a1, .int .i64 a2, .int .i64 3] w fun e w' => e = .returned (.tuple #[.int .i64 (-(mdV a0 a1 a2 3)), .int .i64 (mdE a0 a1 a2 3)]) ∧ Below w.heap.size w w') := fun w => hide (muldiv_opp a0 a1 a2 3 w (by decide) (by decide) (by omega))
    have v3 := mdV_ok2 a0 a1 a2 3
    obtain ⟨e3, f3⟩ := v3
    clear w2 hd
    go_enter Tryd.func9, Tryd.ntmps9
    go_wp2_with fail
    refine (va _).out.mono ?_
    rintro e w' ⟨rfl, rfl⟩
    go_wp2_with fail
    go_loopw [7] (fun m wr => ∃ k : Nat, k ≤ 4 ∧ m = .int .i64 k ∧ Hid (Below w.heap.size w wr)) (fun m _ => 4 - (intOf m).toNat)
    case atStart => exact ⟨0, by decide, rfl, hide (Below.refl _ _)⟩
    case round =>
      obtain ⟨k, hk, rfl, HB⟩ := hrel
      have h5 : k = 0 ∨ k = 1 ∨ k = 2 ∨ k = 3 ∨ k = 4 := by omega
      rcases h5 with rfl | rfl | rfl | rfl | rfl
      · go_wp2_with fail
        refine (c0 _).out.mono ?_
        rintro e w1 ⟨rfl, hb1⟩
        have HB1 := hide (HB.out.trans (hb1.mono HB.out.size))
        clear hb1
        go_wp2_with fail
        refine (d0 _).out.mono ?_
        rintro e w2 ⟨rfl, hb2⟩
        have HB2 := hide (HB1.out.trans (hb2.mono HB1.out.size))
        clear hb2
        go_wp2_with fail
        go_roundw
        case rel => exact ⟨1, by decide, rfl, HB2⟩
        case measure => simp [intOf]
      · go_wp2_with fail
        refine (c1 _).out.mono ?_
        rintro e w1 ⟨rfl, hb1⟩
        have HB1 := hide (HB.out.trans (hb1.mono HB.out.size))
        clear hb1
        go_wp2_with fail
        refine (d1 _).out.mono ?_
        rintro e w2 ⟨rfl, hb2⟩
        have HB2 := hide (HB1.out.trans (hb2.mono HB1.out.size))
        clear hb2
        go_wp2_with fail
        go_roundw
        case rel => exact ⟨2, by decide, rfl, HB2⟩
        case measure => simp [intOf]
      · go_wp2_with fail
        refine (c2 _).out.mono ?_
        rintro e w1 ⟨rfl, hb1⟩
        have HB1 := hide (HB.out.trans (hb1.mono HB.out.size))
        clear hb1
        go_wp2_with fail
        refine (d2 _).out.mono ?_
        rintro e w2 ⟨rfl, hb2⟩
        have HB2 := hide (HB1.out.trans (hb2.mono HB1.out.size))
        clear hb2
        go_wp2_with fail
        go_roundw
        case rel => exact ⟨3, by decide, rfl, HB2⟩
        case measure => simp [intOf]
      · go_wp2_with fail
        refine (c3 _).out.mono ?_
        rintro e w1 ⟨rfl, hb1⟩
        have HB1 := hide (HB.out.trans (hb1.mono HB.out.size))
        clear hb1
        go_wp2_with fail
        refine (d3 _).out.mono ?_
        rintro e w2 ⟨rfl, hb2⟩
        have HB2 := hide (HB1.out.trans (hb2.mono HB1.out.size))
        clear hb2
        go_wp2_with fail
        go_roundw
        case rel => exact ⟨4, by decide, rfl, HB2⟩
        case measure => simp [intOf]
      · go_wp2_with fail
        refine (kn _).out.mono ?_
        rintro e w1 ⟨rfl, hb1⟩
        have HB1 := hide (HB.out.trans (hb1.mono HB.out.size))
        clear hb1
        go_wp2_with fail
        go_ret
        exact ⟨rfl, HB1.out⟩
  · have bx := okB_no hx
    clear w2 hd hx
    go_enter Tryd.func9, Tryd.ntmps9
    go_wp2_with fail
    refine (va _).out.mono ?_
    rintro e w' ⟨rfl, rfl⟩
    go_wp2_with fail
    refine (kn _).out.mono ?_
    rintro e w1 ⟨rfl, hb1⟩
    have HB1 := hide hb1
    clear hb1
    go_wp2_with fail
    go_ret
    exact ⟨rfl, HB1.out⟩
end Go.Proofs.YtahfjhmgmpbmkaaDoor
