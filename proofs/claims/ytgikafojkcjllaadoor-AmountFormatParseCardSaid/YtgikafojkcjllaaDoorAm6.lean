/-
  Contract of amount.MulRem at this translation, over a hypothesis on bits.Div64 at the words that it divides.
-/
import Derived.Test.YtgikafojkcjllaaDoorAm5
namespace Go.Proofs.YtgikafojkcjllaaDoor
open Go.RowKit

/-- The nonnegative remainder, and what MulRem returns of it. -/
def remQ (x num den : Int) : Int := if negB x num = true ∧ 0 < absP x num % den then den - absP x num % den else absP x num % den
def mrR (x num den : Int) : Int := if mdE x num den 0 = 0 then remQ x num den else 0
theorem mrR_ne (x num den : Int) (h : mdE x num den 0 ≠ 0) : mrR x num den = 0 := by unfold mrR; rw [if_neg h]
theorem mrR_ok (x num den : Int) (h : mdE x num den 0 = 0) : mrR x num den = remQ x num den := by unfold mrR; rw [if_pos h]

def MrPost (x num den : Int) (w : World) (e : Ending) (w' : World) : Prop := e = .returned (.tuple #[.int .i64 (mdV x num den 0), .int .i64 (mrR x num den), .int .i64 (mdE x num den 0)]) ∧ Below w.heap.size w w'
theorem mrpost_no {x num den k : Int} {w w' : World} (he : mdE x num den 0 = k) (hk : k ≠ 0) (hb : Below w.heap.size w w') : MrPost x num den w (.returned (.tuple #[.int .i64 0, .int .i64 0, .int .i64 k])) w' :=
  ⟨by rw [mdV_ne _ _ _ _ (by omega), mrR_ne _ _ _ (by omega), he], hb⟩

theorem mulrem_args (x num den : Int) (w : World) (h : ¬ okArgs x num den) :
    Calls Tryd.prog 17 #[.int .i64 x, .int .i64 num, .int .i64 den] w (MrPost x num den w) := by
  have he := hide (mdE_args x num den 0 (by decide) (by decide) h)
  have c := hide (divide_bad x num den w h)
  clear h
  go_enter Tryd.func17, Tryd.ntmps17
  go_wp2_with fail
  refine c.out.mono ?_
  rintro e w1 ⟨rfl, hb⟩
  have HB := hide hb
  clear hb
  go_wp2_with fail
  go_ret3
  exact mrpost_no he.out (by decide) (HB.out.alloc HB.out.size _)

theorem mulrem_over (x num den : Int) (w : World) (h : okArgs x num den) (hq : 1000000000000000 < absP x num / den) (D : DivFor x num den) :
    Calls Tryd.prog 17 #[.int .i64 x, .int .i64 num, .int .i64 den] w (MrPost x num den w) := by
  have he := hide (mdE_over x num den 0 (by decide) (by decide) h (rnd_ge _ _ _ _ _ hq))
  have c := hide (divide_over x num den w h.1 h.2.1 h.2.2.1 h.2.2.2 hq D)
  clear h hq D
  go_enter Tryd.func17, Tryd.ntmps17
  go_wp2_with fail
  refine c.out.mono ?_
  rintro e w1 ⟨rfl, hb⟩
  have HB := hide hb
  clear hb
  go_wp2_with fail
  go_ret3
  exact mrpost_no he.out (by decide) (HB.out.alloc HB.out.size _)

theorem mulrem_bnd (x num den : Int) (w : World) (h : okArgs x num den) (hq : absP x num / den ≤ 1000000000000000) (D : DivFor x num den) (ho : ¬ okA (mdQ x num den 0)) :
    Calls Tryd.prog 17 #[.int .i64 x, .int .i64 num, .int .i64 den] w (MrPost x num den w) := by
  have hl := hi_lt _ _ h.2.2.1 hq
  have c := hide (divide_ok x num den w h.1 h.2.1 h.2.2.1 h.2.2.2 hq (D hl))
  have hp := (absP_bd x num h.1 h.2.1).1
  have p1 : 0 ≤ absP x num / den := Int.ediv_nonneg hp (by have := h.2.2.1; omega)
  have p2 := Int.emod_nonneg (absP x num) (show den ≠ 0 by have := h.2.2.1; omega)
  have p3 := Int.emod_lt_of_pos (absP x num) (show 0 < den by have := h.2.2.1; omega)
  have r := fun w => hide (round_any (negB x num) _ _ den 0 w p1 hq p2 p3 h.2.2.2 (by decide) (by decide))
  have he := hide (mdE_over x num den 0 (by decide) (by decide) h ho)
  have b := fun w => hide (bounded_no (mdQ x num den 0) w (by unfold okA at ho; omega))
  clear h hq D ho
  go_enter Tryd.func17, Tryd.ntmps17
  go_wp2_with fail
  refine c.out.mono ?_
  rintro e w1 ⟨rfl, hb⟩
  have HB := hide hb
  clear hb
  go_wp2_with fail
  refine (r _).out.mono ?_
  rintro e w2 ⟨rfl, hb⟩
  have HB2 := hide hb
  clear hb
  go_wp2_with fail
  refine (b _).out.mono ?_
  rintro e w' ⟨rfl, rfl⟩
  go_wp2_with fail
  go_ret3
  exact mrpost_no he.out (by decide) ((HB.out.alloc HB.out.size _).trans (HB2.out.mono (by have := HB.out.size; simp; omega)))

theorem mulrem_in (x num den : Int) (w : World) (h : okArgs x num den) (hq : absP x num / den ≤ 1000000000000000) (D : DivFor x num den) (ho : okA (mdQ x num den 0)) :
    Calls Tryd.prog 17 #[.int .i64 x, .int .i64 num, .int .i64 den] w (MrPost x num den w) := by
  have hl := hi_lt _ _ h.2.2.1 hq
  have c := hide (divide_ok x num den w h.1 h.2.1 h.2.2.1 h.2.2.2 hq (D hl))
  have hp := (absP_bd x num h.1 h.2.1).1
  have p1 : 0 ≤ absP x num / den := Int.ediv_nonneg hp (by have := h.2.2.1; omega)
  have p2 := Int.emod_nonneg (absP x num) (show den ≠ 0 by have := h.2.2.1; omega)
  have p3 := Int.emod_lt_of_pos (absP x num) (show 0 < den by have := h.2.2.1; omega)
  have r : ∀ w, Hid (Calls Tryd.prog 26 #[.agg #[.bool (negB x num), .int .u64 (absP x num / den), .int .u64 (absP x num % den), .int .u64 den], .int .i64 0] w (fun e w' => e = .returned (.int .i64 (mdQ x num den 0)) ∧ Below w.heap.size w w')) :=
    fun w => hide (round_any (negB x num) _ _ den 0 w p1 hq p2 p3 h.2.2.2 (by decide) (by decide))
  have he := hide (mdE_ok x num den 0 (by decide) (by decide) h ho)
  have b := fun w => hide (bounded_yes (mdQ x num den 0) w ho.1 ho.2)
  have d2 := h.2.2.2
  have d1 := h.2.2.1
  have fin : ∀ R w', R = remQ x num den → Below w.heap.size w w' → MrPost x num den w (.returned (.tuple #[.int .i64 (mdQ x num den 0), .int .i64 R, .int .i64 0])) w' := fun R w' hR hb =>
    ⟨by rw [mdV_ok _ _ _ _ he.out, mrR_ok _ _ _ he.out, he.out, hR], hb⟩
  have FIN := hide fin
  clear h hq D ho fin hp
  cases hn : negB x num
  · rw [hn] at c r
    have HN := hide hn
    clear hn
    go_enter Tryd.func17, Tryd.ntmps17
    go_wp2_with fail
    refine c.out.mono ?_
    rintro e w1 ⟨rfl, hb⟩
    have HB := hide hb
    clear hb
    go_wp2_with fail
    refine (r _).out.mono ?_
    rintro e w2 ⟨rfl, hb⟩
    obtain ⟨hc, hf⟩ := bcell hb
    have HB2 := hide hb
    clear hb
    go_wp2_with fail
    refine (b _).out.mono ?_
    rintro e w' ⟨rfl, rfl⟩
    go_wp2_with fail
    go_ret3
    exact FIN.out _ _ (by unfold remQ; rw [HN.out]; simp) ((HB.out.alloc HB.out.size _).trans (HB2.out.mono (by have := HB.out.size; simp; omega)))
  · rw [hn] at c r
    by_cases hr : 0 < absP x num % den
    · have HR : Hid (remQ x num den = den - absP x num % den) := hide (by unfold remQ; rw [hn, if_pos ⟨rfl, hr⟩])
      clear hn
      go_enter Tryd.func17, Tryd.ntmps17
      go_wp2_with fail
      refine c.out.mono ?_
      rintro e w1 ⟨rfl, hb⟩
      have HB := hide hb
      clear hb
      go_wp2_with fail
      refine (r _).out.mono ?_
      rintro e w2 ⟨rfl, hb⟩
      obtain ⟨hc, hf⟩ := bcell hb
      have HB2 := hide hb
      clear hb
      go_wp2_with fail
      refine (b _).out.mono ?_
      rintro e w' ⟨rfl, rfl⟩
      go_wp2_with fail
      go_ret3
      exact FIN.out _ _ HR.out.symm ((HB.out.alloc HB.out.size _).trans (HB2.out.mono (by have := HB.out.size; simp; omega)))
    · have HR : Hid (remQ x num den = absP x num % den) := hide (by unfold remQ; rw [if_neg (fun hh => hr hh.2)])
      clear hn
      go_enter Tryd.func17, Tryd.ntmps17
      go_wp2_with fail
      refine c.out.mono ?_
      rintro e w1 ⟨rfl, hb⟩
      have HB := hide hb
      clear hb
      go_wp2_with fail
      refine (r _).out.mono ?_
      rintro e w2 ⟨rfl, hb⟩
      obtain ⟨hc, hf⟩ := bcell hb
      have HB2 := hide hb
      clear hb
      go_wp2_with fail
      refine (b _).out.mono ?_
      rintro e w' ⟨rfl, rfl⟩
      go_wp2_with fail
      go_ret3
      exact FIN.out _ _ HR.out.symm ((HB.out.alloc HB.out.size _).trans (HB2.out.mono (by have := HB.out.size; simp; omega)))

/-- amount.MulRem. -/
theorem mulrem_any (x num den : Int) (w : World) (D : DivFor x num den) : Calls Tryd.prog 17 #[.int .i64 x, .int .i64 num, .int .i64 den] w (MrPost x num den w) := by
  by_cases h : okArgs x num den
  · by_cases hq : absP x num / den ≤ 1000000000000000
    · by_cases ho : okA (mdQ x num den 0)
      · exact mulrem_in x num den w h hq D ho
      · exact mulrem_bnd x num den w h hq D ho
    · exact mulrem_over x num den w h (by omega) D
  · exact mulrem_args x num den w h
end Go.Proofs.YtgikafojkcjllaaDoor
