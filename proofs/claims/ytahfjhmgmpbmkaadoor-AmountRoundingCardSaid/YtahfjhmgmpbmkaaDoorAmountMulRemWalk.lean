/-
  The walk of the statement AmountMulRem: amount.MulRem against the reference and against MulDiv rounded down.
-/
import Derived.Test.YtahfjhmgmpbmkaaDoorAmountMulDivWalk
namespace Go.Proofs.YtahfjhmgmpbmkaaDoor
open Go.RowKit

def RmPost (x num den : Int) (w : World) (e : Ending) (w' : World) : Prop := e = .returned (.tuple #[.int .i64 (mdV x num den 0), .int .i64 (mrR x num den), .int .i64 (mdE x num den 0)]) ∧ ∃ n, w' = w.drewN n

theorem mdE_zero {x num den : Int} (h : mdE x num den 0 = 0) : okArgs x num den ∧ okA (mdQ x num den 0) := by
  by_cases ha : okArgs x num den
  · by_cases hq : okA (mdQ x num den 0)
    · exact ⟨ha, hq⟩
    · have := mdE_over x num den 0 (by decide) (by decide) ha hq; omega
  · have := mdE_args x num den 0 (by decide) (by decide) ha; omega

theorem refmr_no (x num den : Int) (w : World) (h : mdE x num den 0 ≠ 0) : Calls Tryd.prog 25 #[.int .i64 x, .int .i64 num, .int .i64 den] w (RmPost x num den w) := by
  have r := fun w => hide (refmd_any x num den 0 w)
  have fin : ∀ w', (∃ n, w' = w.drewN n) → RmPost x num den w (.returned (.tuple #[.int .i64 0, .int .i64 0, .int .i64 (mdE x num den 0)])) w' := fun w' hw => ⟨by rw [mdV_ne _ _ _ _ h, mrR_ne _ _ _ h], hw⟩
  have FIN := hide fin
  have hne : (mdE x num den 0 != 0) = true := by simpa using h
  clear fin h
  go_enter Tryd.func25, Tryd.ntmps25
  go_wp2_with fail
  refine (r _).out.mono ?_
  rintro e w2 ⟨rfl, n, rfl⟩
  go_wp2_with fail
  go_ret3
  exact FIN.out _ ⟨n, rfl⟩

theorem refmr_in (x num den : Int) (w : World) (hE : mdE x num den 0 = 0) : Calls Tryd.prog 25 #[.int .i64 x, .int .i64 num, .int .i64 den] w (RmPost x num den w) := by
  obtain ⟨h, ho⟩ := mdE_zero hE
  have hq : absP x num / den ≤ 2000000000000000 := by
    apply Classical.byContradiction; intro hc
    exact rnd_ge _ _ _ _ _ (show 1000000000000000 < absP x num / den by omega) ho
  have r0 := fun w => refmd_any x num den 0 w
  have r : ∀ w, Hid (Calls Tryd.prog 23 #[.int .i64 x, .int .i64 num, .int .i64 den, .int .i64 0] w fun e w' => e = .returned (.tuple #[.int .i64 (mdV x num den 0), .int .i64 0]) ∧ ∃ n, w' = w.drewN n) := fun w => by
    have := r0 w; unfold MdPost at this; rw [hE] at this; exact hide this
  have c := fun w => hide (refquo_in x num den w h hq)
  have p2 : 0 ≤ absP x num % den := Int.emod_nonneg _ (by have := h.2.2.1; omega)
  have p3 : absP x num % den < den := Int.emod_lt_of_pos _ (by have := h.2.2.1; omega)
  have fin : ∀ R w', R = remQ x num den → (∃ n, w' = w.drewN n) → RmPost x num den w (.returned (.tuple #[.int .i64 (mdV x num den 0), .int .i64 R, .int .i64 0])) w' := fun R w' hR hw => ⟨by rw [mrR_ok _ _ _ hE, hE, hR], hw⟩
  have FIN := hide fin
  obtain ⟨hx, hm, d1, d2⟩ := h
  obtain ⟨x1, x2⟩ := hx
  obtain ⟨n1, n2⟩ := hm
  clear fin r0 hE ho hq
  cases hn : (!(decide (x < 0) == decide (num < 0)))
  · have HR : Hid (remQ x num den = absP x num % den) := hide (by unfold remQ negB; rw [hn]; simp)
    go_enter Tryd.func25, Tryd.ntmps25
    go_wp2_with fail
    refine (r _).out.mono ?_
    rintro e w2 ⟨rfl, n, rfl⟩
    go_wp2_with (first | (go_at_call_of 36 (Value.int .i64 x); refine (refabs_any _ _ x1 x2).mono ?_; rintro e w' ⟨rfl, rfl⟩) | (go_at_call_of 36 (Value.int .i64 num); refine (refabs_any _ _ n1 n2).mono ?_; rintro e w' ⟨rfl, rfl⟩))
    refine (c _).out.mono ?_
    rintro e w' ⟨rfl, m, rfl⟩
    go_wp2_with fail
    go_ret3
    exact FIN.out _ _ HR.out.symm ⟨_, rfl⟩
  · by_cases hr : 0 < absP x num % den
    · have HR : Hid (remQ x num den = den - absP x num % den) := hide (by unfold remQ negB; rw [hn, if_pos ⟨rfl, hr⟩])
      go_enter Tryd.func25, Tryd.ntmps25
      go_wp2_with fail
      refine (r _).out.mono ?_
      rintro e w2 ⟨rfl, n, rfl⟩
      go_wp2_with (first | (go_at_call_of 36 (Value.int .i64 x); refine (refabs_any _ _ x1 x2).mono ?_; rintro e w' ⟨rfl, rfl⟩) | (go_at_call_of 36 (Value.int .i64 num); refine (refabs_any _ _ n1 n2).mono ?_; rintro e w' ⟨rfl, rfl⟩))
      refine (c _).out.mono ?_
      rintro e w' ⟨rfl, m, rfl⟩
      go_wp2_with fail
      go_ret3
      exact FIN.out _ _ HR.out.symm ⟨_, rfl⟩
    · have HR : Hid (remQ x num den = absP x num % den) := hide (by unfold remQ; rw [if_neg (fun hh => hr hh.2)])
      go_enter Tryd.func25, Tryd.ntmps25
      go_wp2_with fail
      refine (r _).out.mono ?_
      rintro e w2 ⟨rfl, n, rfl⟩
      go_wp2_with (first | (go_at_call_of 36 (Value.int .i64 x); refine (refabs_any _ _ x1 x2).mono ?_; rintro e w' ⟨rfl, rfl⟩) | (go_at_call_of 36 (Value.int .i64 num); refine (refabs_any _ _ n1 n2).mono ?_; rintro e w' ⟨rfl, rfl⟩))
      refine (c _).out.mono ?_
      rintro e w' ⟨rfl, m, rfl⟩
      go_wp2_with fail
      go_ret3
      exact FIN.out _ _ HR.out.symm ⟨_, rfl⟩

theorem refmr_any (x num den : Int) (w : World) : Calls Tryd.prog 25 #[.int .i64 x, .int .i64 num, .int .i64 den] w (RmPost x num den w) := by
  by_cases h : mdE x num den 0 = 0
  · exact refmr_in x num den w h
  · exact refmr_no x num den w h

/-- The remainder that MulRem returns lies between 0 and the divisor. -/
theorem mrR_bounds {x num den : Int} (h : mdE x num den 0 = 0) : 0 ≤ mrR x num den ∧ mrR x num den < den := by
  obtain ⟨ha, _⟩ := mdE_zero h
  have d1 := ha.2.2.1
  have p2 : 0 ≤ absP x num % den := Int.emod_nonneg _ (by omega)
  have p3 : absP x num % den < den := Int.emod_lt_of_pos _ (by omega)
  rw [mrR_ok _ _ _ h]
  unfold remQ
  split <;> omega

set_option maxHeartbeats 400000 in
theorem amountMulRem_walk (a0 : Int) (a1 : Int) (a2 : Int) (w : World) (_w0 : (Lit.int .i64 a0).wf = true) (_w1 : (Lit.int .i64 a1).wf = true) (w2 : (Lit.int .i64 a2).wf = true) :
    Calls Tryd.prog 7 #[.int .i64 a0, .int .i64 a1, .int .i64 a2] w fun e w' => e = .returned (.bool true) ∧ Below w.heap.size w w' := by
  have hd := (wf_bounds w2).2
  have D := divFor_any a0 a1 a2 (by omega)
  have c := fun w => hide (mulrem_any a0 a1 a2 w D)
  have m := fun w => hide (muldiv_any a0 a1 a2 0 w D)
  have r := fun w => hide (refmr_any a0 a1 a2 w)
  have kn := fun w => hide (known_any w)
  clear w2 hd D
  by_cases h : mdE a0 a1 a2 0 = 0
  · obtain ⟨b1, b2⟩ := mrR_bounds h
    have hz : (mdE a0 a1 a2 0 != 0) = false := by simpa using h
    clear h
    go_enter Tryd.func7, Tryd.ntmps7
    go_wp2_with fail
    refine (c _).out.mono ?_
    rintro e w1 ⟨rfl, hb⟩
    have HB := hide hb
    clear hb
    go_wp2_with fail
    refine (r _).out.mono ?_
    rintro e w2 ⟨rfl, n, rfl⟩
    go_wp2_with fail
    refine (m _).out.mono ?_
    rintro e w3 ⟨rfl, hb⟩
    have HB2 := hide ((below_drewN HB.out n).trans (hb.mono (below_drewN HB.out n).size))
    clear hb
    go_wp2_with fail
    refine (kn _).out.mono ?_
    rintro e w4 ⟨rfl, hb⟩
    have HB3 := hide (HB2.out.trans (hb.mono HB2.out.size))
    clear hb
    go_wp2_with fail
    go_ret
    exact ⟨rfl, HB3.out⟩
  · have hz : (mdE a0 a1 a2 0 != 0) = true := by simpa using h
    clear h
    go_enter Tryd.func7, Tryd.ntmps7
    go_wp2_with fail
    refine (c _).out.mono ?_
    rintro e w1 ⟨rfl, hb⟩
    have HB := hide hb
    clear hb
    go_wp2_with fail
    refine (r _).out.mono ?_
    rintro e w2 ⟨rfl, n, rfl⟩
    go_wp2_with fail
    refine (m _).out.mono ?_
    rintro e w3 ⟨rfl, hb⟩
    have HB2 := hide ((below_drewN HB.out n).trans (hb.mono (below_drewN HB.out n).size))
    clear hb
    go_wp2_with fail
    refine (kn _).out.mono ?_
    rintro e w4 ⟨rfl, hb⟩
    have HB3 := hide (HB2.out.trans (hb.mono HB2.out.size))
    clear hb
    go_wp2_with fail
    go_ret
    exact ⟨rfl, HB3.out⟩
end Go.Proofs.YtahfjhmgmpbmkaaDoor
