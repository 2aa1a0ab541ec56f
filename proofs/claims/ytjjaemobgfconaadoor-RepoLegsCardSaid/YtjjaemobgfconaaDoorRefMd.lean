/-
  Contracts of the reference's abs, MulDiv and MulRem at this translation: they answer what amount's MulDiv and MulRem answer.
-/
import Derived.Test.YtjjaemobgfconaaDoorQuo
import Derived.Test.YtjjaemobgfconaaDoorAm5
import Derived.Test.YtjjaemobgfconaaDoorRc
namespace Go.Proofs.YtjjaemobgfconaaDoor
open Go.RowKit
set_option linter.unusedVariables false
set_option linter.unusedSimpArgs false

theorem refabs_any (x : Int) (w : World) (h1 : -1000000000000000 ≤ x) (h2 : x ≤ 1000000000000000) :
    Calls Tryd.prog 49 #[.int .i64 x] w fun e w' => e = .returned (.int .i64 (x.natAbs : Int)) ∧ w = w' := by
  by_cases h : x < 0
  · go_enter Tryd.func49, Tryd.ntmps49
    go_wp2
    go_ret
    exact ⟨ret_i (by omega), rfl⟩
  · go_enter Tryd.func49, Tryd.ntmps49
    go_wp2
    go_ret
    exact ⟨ret_i (by omega), rfl⟩

theorem refquo_in (x num den : Int) (w : World) (h : okArgs x num den) (hq : absP x num / den ≤ 2000000000000000) :
    Calls Tryd.prog 42 #[.int .i64 (x.natAbs : Int), .int .i64 (num.natAbs : Int), .int .i64 den] w fun e w' => e = .returned (.tuple #[.int .i64 (absP x num / den), .int .i64 (absP x num % den), .bool true]) ∧ ∃ n, w' = w.drewN n := by
  obtain ⟨hx, hn, d1, d2⟩ := h
  unfold okA at hx hn
  refine (refquo_any (x.natAbs : Int) (num.natAbs : Int) den w (by omega) (by omega) (by omega) (by omega) d1 d2).mono ?_
  rintro e w' ⟨rfl, hw⟩
  refine ⟨?_, hw⟩
  change absP x num / den ≤ 2000000000000000 at hq
  unfold absP at hq
  unfold qV qR qB absP
  rw [if_pos hq, if_pos hq, decide_eq_true hq]
theorem refquo_out (x num den : Int) (w : World) (h : okArgs x num den) (hq : ¬ absP x num / den ≤ 2000000000000000) :
    Calls Tryd.prog 42 #[.int .i64 (x.natAbs : Int), .int .i64 (num.natAbs : Int), .int .i64 den] w fun e w' => e = .returned (.tuple #[.int .i64 0, .int .i64 0, .bool false]) ∧ ∃ n, w' = w.drewN n := by
  obtain ⟨hx, hn, d1, d2⟩ := h
  unfold okA at hx hn
  refine (refquo_any (x.natAbs : Int) (num.natAbs : Int) den w (by omega) (by omega) (by omega) (by omega) d1 d2).mono ?_
  rintro e w' ⟨rfl, hw⟩
  refine ⟨?_, hw⟩
  unfold absP at hq
  unfold qV qR qB
  rw [if_neg hq, if_neg hq, decide_eq_false hq]

def MdPost (x num den mode : Int) (w : World) (e : Ending) (w' : World) : Prop := e = .returned (.tuple #[.int .i64 (mdV x num den mode), .int .i64 (mdE x num den mode)]) ∧ ∃ n, w' = w.drewN n
theorem mdpost_no {x num den mode k : Int} {w w' : World} (he : mdE x num den mode = k) (hk : k ≠ 0) (hw : ∃ n, w' = w.drewN n) : MdPost x num den mode w (.returned (.tuple #[.int .i64 0, .int .i64 k])) w' :=
  ⟨by rw [mdV_ne _ _ _ _ (by omega), he], hw⟩
theorem mdpost_chk {x num den mode v : Int} {w w' : World} (m1 : 0 ≤ mode) (m2 : mode ≤ 3) (h : okArgs x num den) (hv : mdQ x num den mode = v) (hw : ∃ n, w' = w.drewN n) : MdPost x num den mode w (.returned (.tuple #[.int .i64 (chkV v), .int .i64 (chkE v)])) w' := by
  refine ⟨?_, hw⟩
  subst hv
  unfold chkV chkE
  by_cases ho : okA (mdQ x num den mode)
  · have he := mdE_ok x num den mode m1 m2 h ho
    rw [mdV_ok _ _ _ _ he, he, if_pos ho, if_pos ho]
  · have he := mdE_over x num den mode m1 m2 h ho
    rw [mdV_ne _ _ _ _ (by omega), he, if_neg ho, if_neg ho]

theorem refmd_mode (x num den mode : Int) (w : World) (h : mode < 0 ∨ 3 < mode) : Calls Tryd.prog 37 #[.int .i64 x, .int .i64 num, .int .i64 den, .int .i64 mode] w (MdPost x num den mode w) := by
  have he := hide (mdE_mode x num den mode h)
  rcases h with h | h
  · go_enter Tryd.func37, Tryd.ntmps37
    go_wp2
    go_ret2
    exact mdpost_no he.out (by decide) ⟨0, rfl⟩
  · have h' : ¬ mode < 0 := by omega
    go_enter Tryd.func37, Tryd.ntmps37
    go_wp2
    go_ret2
    exact mdpost_no he.out (by decide) ⟨0, rfl⟩

theorem refmd_args (x num den mode : Int) (w : World) (m1 : 0 ≤ mode) (m2 : mode ≤ 3) (h : ¬ okArgs x num den) : Calls Tryd.prog 37 #[.int .i64 x, .int .i64 num, .int .i64 den, .int .i64 mode] w (MdPost x num den mode w) := by
  have he := hide (mdE_args x num den mode m1 m2 h)
  by_cases hx : okA x
  · have bx := okB_yes hx
    by_cases hn : okA num
    · have bn := okB_yes hn
      by_cases hd : den < 1
      · clear h hx hn
        go_enter Tryd.func37, Tryd.ntmps37
        go_wp2_with (go_at_call 48; refine (refvalid_any _ _).mono ?_; rintro e w' ⟨rfl, rfl⟩)
        go_ret2
        exact mdpost_no he.out (by decide) ⟨0, rfl⟩
      · have hd1 : 1000000000000000 < den := by
          apply Classical.byContradiction; intro hc
          exact h ⟨hx, hn, by omega, by omega⟩
        clear h hx hn
        go_enter Tryd.func37, Tryd.ntmps37
        go_wp2_with (go_at_call 48; refine (refvalid_any _ _).mono ?_; rintro e w' ⟨rfl, rfl⟩)
        go_ret2
        exact mdpost_no he.out (by decide) ⟨0, rfl⟩
    · have bn := okB_no hn
      clear h hx hn
      go_enter Tryd.func37, Tryd.ntmps37
      go_wp2_with (go_at_call 48; refine (refvalid_any _ _).mono ?_; rintro e w' ⟨rfl, rfl⟩)
      go_ret2
      exact mdpost_no he.out (by decide) ⟨0, rfl⟩
  · have bx := okB_no hx
    clear h hx
    go_enter Tryd.func37, Tryd.ntmps37
    go_wp2_with (go_at_call 48; refine (refvalid_any _ _).mono ?_; rintro e w' ⟨rfl, rfl⟩)
    go_ret2
    exact mdpost_no he.out (by decide) ⟨0, rfl⟩

theorem refmd_out (x num den mode : Int) (w : World) (m1 : 0 ≤ mode) (m2 : mode ≤ 3) (h : okArgs x num den) (hq : ¬ absP x num / den ≤ 2000000000000000) : Calls Tryd.prog 37 #[.int .i64 x, .int .i64 num, .int .i64 den, .int .i64 mode] w (MdPost x num den mode w) := by
  have he := hide (mdE_over x num den mode m1 m2 h (rnd_ge _ _ _ _ _ (by omega)))
  have c := fun w => hide (refquo_out x num den w h hq)
  obtain ⟨hx, hn, d1, d2⟩ := h
  have bx := okB_yes hx
  have bn := okB_yes hn
  obtain ⟨x1, x2⟩ := hx
  obtain ⟨n1, n2⟩ := hn
  clear hq
  go_enter Tryd.func37, Tryd.ntmps37
  go_wp2_with (first | (go_at_call 48; refine (refvalid_any _ _).mono ?_; rintro e w' ⟨rfl, rfl⟩) | (go_at_call_of 49 (Value.int .i64 x); refine (refabs_any _ _ x1 x2).mono ?_; rintro e w' ⟨rfl, rfl⟩) | (go_at_call_of 49 (Value.int .i64 num); refine (refabs_any _ _ n1 n2).mono ?_; rintro e w' ⟨rfl, rfl⟩))
  refine (c _).out.mono ?_
  rintro e w' ⟨rfl, n, rfl⟩
  go_wp2_with fail
  go_ret2
  exact mdpost_no he.out (by decide) ⟨_, rfl⟩

theorem refmd_m0a (x num den : Int) (w : World) (h : okArgs x num den) (hq : absP x num / den ≤ 2000000000000000) (hn : (!(decide (x < 0) == decide (num < 0))) = true) (hr : 0 < absP x num % den) : Calls Tryd.prog 37 #[.int .i64 x, .int .i64 num, .int .i64 den, .int .i64 0] w (MdPost x num den 0 w) := by
  have hv : Hid (mdQ x num den 0 = -(absP x num / den + 1)) := hide (by simp [mdQ, rnd, upB, negB, hn, hr])
  have H := hide h
  have c := fun w => hide (refquo_in x num den w h hq)
  have p1 : 0 ≤ absP x num / den := Int.ediv_nonneg (absP_bd x num h.1 h.2.1).1 (by have := h.2.2.1; omega)
  have p2 : 0 ≤ absP x num % den := Int.emod_nonneg _ (by have := h.2.2.1; omega)
  have p3 : absP x num % den < den := Int.emod_lt_of_pos _ (by have := h.2.2.1; omega)
  obtain ⟨hx, hm, d1, d2⟩ := h
  have bx := okB_yes hx
  have bn := okB_yes hm
  obtain ⟨x1, x2⟩ := hx
  obtain ⟨n1, n2⟩ := hm
  go_enter Tryd.func37, Tryd.ntmps37
  go_wp2_with (first | (go_at_call 48; refine (refvalid_any _ _).mono ?_; rintro e w' ⟨rfl, rfl⟩) | (go_at_call_of 49 (Value.int .i64 x); refine (refabs_any _ _ x1 x2).mono ?_; rintro e w' ⟨rfl, rfl⟩) | (go_at_call_of 49 (Value.int .i64 num); refine (refabs_any _ _ n1 n2).mono ?_; rintro e w' ⟨rfl, rfl⟩))
  refine (c _).out.mono ?_
  rintro e w' ⟨rfl, n, rfl⟩
  go_wp2_with fail
  refine (refchecked_any _ _).mono ?_
  rintro e w' ⟨rfl, rfl⟩
  go_wp2_with fail
  go_ret2
  exact mdpost_chk (by decide) (by decide) H.out hv.out ⟨_, rfl⟩
theorem refmd_m0b (x num den : Int) (w : World) (h : okArgs x num den) (hq : absP x num / den ≤ 2000000000000000) (hn : (!(decide (x < 0) == decide (num < 0))) = true) (hr : ¬ 0 < absP x num % den) : Calls Tryd.prog 37 #[.int .i64 x, .int .i64 num, .int .i64 den, .int .i64 0] w (MdPost x num den 0 w) := by
  have hv : Hid (mdQ x num den 0 = -(absP x num / den)) := hide (by simp [mdQ, rnd, upB, negB, hn, hr])
  have H := hide h
  have c := fun w => hide (refquo_in x num den w h hq)
  have p1 : 0 ≤ absP x num / den := Int.ediv_nonneg (absP_bd x num h.1 h.2.1).1 (by have := h.2.2.1; omega)
  have p2 : 0 ≤ absP x num % den := Int.emod_nonneg _ (by have := h.2.2.1; omega)
  have p3 : absP x num % den < den := Int.emod_lt_of_pos _ (by have := h.2.2.1; omega)
  obtain ⟨hx, hm, d1, d2⟩ := h
  have bx := okB_yes hx
  have bn := okB_yes hm
  obtain ⟨x1, x2⟩ := hx
  obtain ⟨n1, n2⟩ := hm
  go_enter Tryd.func37, Tryd.ntmps37
  go_wp2_with (first | (go_at_call 48; refine (refvalid_any _ _).mono ?_; rintro e w' ⟨rfl, rfl⟩) | (go_at_call_of 49 (Value.int .i64 x); refine (refabs_any _ _ x1 x2).mono ?_; rintro e w' ⟨rfl, rfl⟩) | (go_at_call_of 49 (Value.int .i64 num); refine (refabs_any _ _ n1 n2).mono ?_; rintro e w' ⟨rfl, rfl⟩))
  refine (c _).out.mono ?_
  rintro e w' ⟨rfl, n, rfl⟩
  go_wp2_with fail
  refine (refchecked_any _ _).mono ?_
  rintro e w' ⟨rfl, rfl⟩
  go_wp2_with fail
  go_ret2
  exact mdpost_chk (by decide) (by decide) H.out hv.out ⟨_, rfl⟩
theorem refmd_m0c (x num den : Int) (w : World) (h : okArgs x num den) (hq : absP x num / den ≤ 2000000000000000) (hn : (!(decide (x < 0) == decide (num < 0))) = false)  : Calls Tryd.prog 37 #[.int .i64 x, .int .i64 num, .int .i64 den, .int .i64 0] w (MdPost x num den 0 w) := by
  have hv : Hid (mdQ x num den 0 = absP x num / den) := hide (by simp [mdQ, rnd, upB, negB, hn])
  have H := hide h
  have c := fun w => hide (refquo_in x num den w h hq)
  have p1 : 0 ≤ absP x num / den := Int.ediv_nonneg (absP_bd x num h.1 h.2.1).1 (by have := h.2.2.1; omega)
  have p2 : 0 ≤ absP x num % den := Int.emod_nonneg _ (by have := h.2.2.1; omega)
  have p3 : absP x num % den < den := Int.emod_lt_of_pos _ (by have := h.2.2.1; omega)
  obtain ⟨hx, hm, d1, d2⟩ := h
  have bx := okB_yes hx
  have bn := okB_yes hm
  obtain ⟨x1, x2⟩ := hx
  obtain ⟨n1, n2⟩ := hm
  go_enter Tryd.func37, Tryd.ntmps37
  go_wp2_with (first | (go_at_call 48; refine (refvalid_any _ _).mono ?_; rintro e w' ⟨rfl, rfl⟩) | (go_at_call_of 49 (Value.int .i64 x); refine (refabs_any _ _ x1 x2).mono ?_; rintro e w' ⟨rfl, rfl⟩) | (go_at_call_of 49 (Value.int .i64 num); refine (refabs_any _ _ n1 n2).mono ?_; rintro e w' ⟨rfl, rfl⟩))
  refine (c _).out.mono ?_
  rintro e w' ⟨rfl, n, rfl⟩
  go_wp2_with fail
  refine (refchecked_any _ _).mono ?_
  rintro e w' ⟨rfl, rfl⟩
  go_wp2_with fail
  go_ret2
  exact mdpost_chk (by decide) (by decide) H.out hv.out ⟨_, rfl⟩
theorem refmd_m1a (x num den : Int) (w : World) (h : okArgs x num den) (hq : absP x num / den ≤ 2000000000000000) (hn : (!(decide (x < 0) == decide (num < 0))) = false) (hr : 0 < absP x num % den) : Calls Tryd.prog 37 #[.int .i64 x, .int .i64 num, .int .i64 den, .int .i64 1] w (MdPost x num den 1 w) := by
  have hv : Hid (mdQ x num den 1 = absP x num / den + 1) := hide (by simp [mdQ, rnd, upB, negB, hn, hr])
  have H := hide h
  have c := fun w => hide (refquo_in x num den w h hq)
  have p1 : 0 ≤ absP x num / den := Int.ediv_nonneg (absP_bd x num h.1 h.2.1).1 (by have := h.2.2.1; omega)
  have p2 : 0 ≤ absP x num % den := Int.emod_nonneg _ (by have := h.2.2.1; omega)
  have p3 : absP x num % den < den := Int.emod_lt_of_pos _ (by have := h.2.2.1; omega)
  obtain ⟨hx, hm, d1, d2⟩ := h
  have bx := okB_yes hx
  have bn := okB_yes hm
  obtain ⟨x1, x2⟩ := hx
  obtain ⟨n1, n2⟩ := hm
  go_enter Tryd.func37, Tryd.ntmps37
  go_wp2_with (first | (go_at_call 48; refine (refvalid_any _ _).mono ?_; rintro e w' ⟨rfl, rfl⟩) | (go_at_call_of 49 (Value.int .i64 x); refine (refabs_any _ _ x1 x2).mono ?_; rintro e w' ⟨rfl, rfl⟩) | (go_at_call_of 49 (Value.int .i64 num); refine (refabs_any _ _ n1 n2).mono ?_; rintro e w' ⟨rfl, rfl⟩))
  refine (c _).out.mono ?_
  rintro e w' ⟨rfl, n, rfl⟩
  go_wp2_with fail
  refine (refchecked_any _ _).mono ?_
  rintro e w' ⟨rfl, rfl⟩
  go_wp2_with fail
  go_ret2
  exact mdpost_chk (by decide) (by decide) H.out hv.out ⟨_, rfl⟩
theorem refmd_m1b (x num den : Int) (w : World) (h : okArgs x num den) (hq : absP x num / den ≤ 2000000000000000) (hn : (!(decide (x < 0) == decide (num < 0))) = false) (hr : ¬ 0 < absP x num % den) : Calls Tryd.prog 37 #[.int .i64 x, .int .i64 num, .int .i64 den, .int .i64 1] w (MdPost x num den 1 w) := by
  have hv : Hid (mdQ x num den 1 = absP x num / den) := hide (by simp [mdQ, rnd, upB, negB, hn, hr])
  have H := hide h
  have c := fun w => hide (refquo_in x num den w h hq)
  have p1 : 0 ≤ absP x num / den := Int.ediv_nonneg (absP_bd x num h.1 h.2.1).1 (by have := h.2.2.1; omega)
  have p2 : 0 ≤ absP x num % den := Int.emod_nonneg _ (by have := h.2.2.1; omega)
  have p3 : absP x num % den < den := Int.emod_lt_of_pos _ (by have := h.2.2.1; omega)
  obtain ⟨hx, hm, d1, d2⟩ := h
  have bx := okB_yes hx
  have bn := okB_yes hm
  obtain ⟨x1, x2⟩ := hx
  obtain ⟨n1, n2⟩ := hm
  go_enter Tryd.func37, Tryd.ntmps37
  go_wp2_with (first | (go_at_call 48; refine (refvalid_any _ _).mono ?_; rintro e w' ⟨rfl, rfl⟩) | (go_at_call_of 49 (Value.int .i64 x); refine (refabs_any _ _ x1 x2).mono ?_; rintro e w' ⟨rfl, rfl⟩) | (go_at_call_of 49 (Value.int .i64 num); refine (refabs_any _ _ n1 n2).mono ?_; rintro e w' ⟨rfl, rfl⟩))
  refine (c _).out.mono ?_
  rintro e w' ⟨rfl, n, rfl⟩
  go_wp2_with fail
  refine (refchecked_any _ _).mono ?_
  rintro e w' ⟨rfl, rfl⟩
  go_wp2_with fail
  go_ret2
  exact mdpost_chk (by decide) (by decide) H.out hv.out ⟨_, rfl⟩
theorem refmd_m1c (x num den : Int) (w : World) (h : okArgs x num den) (hq : absP x num / den ≤ 2000000000000000) (hn : (!(decide (x < 0) == decide (num < 0))) = true)  : Calls Tryd.prog 37 #[.int .i64 x, .int .i64 num, .int .i64 den, .int .i64 1] w (MdPost x num den 1 w) := by
  have hv : Hid (mdQ x num den 1 = -(absP x num / den)) := hide (by simp [mdQ, rnd, upB, negB, hn])
  have H := hide h
  have c := fun w => hide (refquo_in x num den w h hq)
  have p1 : 0 ≤ absP x num / den := Int.ediv_nonneg (absP_bd x num h.1 h.2.1).1 (by have := h.2.2.1; omega)
  have p2 : 0 ≤ absP x num % den := Int.emod_nonneg _ (by have := h.2.2.1; omega)
  have p3 : absP x num % den < den := Int.emod_lt_of_pos _ (by have := h.2.2.1; omega)
  obtain ⟨hx, hm, d1, d2⟩ := h
  have bx := okB_yes hx
  have bn := okB_yes hm
  obtain ⟨x1, x2⟩ := hx
  obtain ⟨n1, n2⟩ := hm
  go_enter Tryd.func37, Tryd.ntmps37
  go_wp2_with (first | (go_at_call 48; refine (refvalid_any _ _).mono ?_; rintro e w' ⟨rfl, rfl⟩) | (go_at_call_of 49 (Value.int .i64 x); refine (refabs_any _ _ x1 x2).mono ?_; rintro e w' ⟨rfl, rfl⟩) | (go_at_call_of 49 (Value.int .i64 num); refine (refabs_any _ _ n1 n2).mono ?_; rintro e w' ⟨rfl, rfl⟩))
  refine (c _).out.mono ?_
  rintro e w' ⟨rfl, n, rfl⟩
  go_wp2_with fail
  refine (refchecked_any _ _).mono ?_
  rintro e w' ⟨rfl, rfl⟩
  go_wp2_with fail
  go_ret2
  exact mdpost_chk (by decide) (by decide) H.out hv.out ⟨_, rfl⟩
theorem refmd_m2gT (x num den : Int) (w : World) (h : okArgs x num den) (hq : absP x num / den ≤ 2000000000000000) (hn : (!(decide (x < 0) == decide (num < 0))) = true) (hr : 0 < absP x num % den) (hg : den < 2 * (absP x num % den)) : Calls Tryd.prog 37 #[.int .i64 x, .int .i64 num, .int .i64 den, .int .i64 2] w (MdPost x num den 2 w) := by
  have hv : Hid (mdQ x num den 2 = -(absP x num / den + 1)) := hide (by simp [mdQ, rnd, upB, negB, hn, hr, hg])
  have H := hide h
  have c := fun w => hide (refquo_in x num den w h hq)
  have p1 : 0 ≤ absP x num / den := Int.ediv_nonneg (absP_bd x num h.1 h.2.1).1 (by have := h.2.2.1; omega)
  have p2 : 0 ≤ absP x num % den := Int.emod_nonneg _ (by have := h.2.2.1; omega)
  have p3 : absP x num % den < den := Int.emod_lt_of_pos _ (by have := h.2.2.1; omega)
  obtain ⟨hx, hm, d1, d2⟩ := h
  have bx := okB_yes hx
  have bn := okB_yes hm
  obtain ⟨x1, x2⟩ := hx
  obtain ⟨n1, n2⟩ := hm
  go_enter Tryd.func37, Tryd.ntmps37
  go_wp2_with (first | (go_at_call 48; refine (refvalid_any _ _).mono ?_; rintro e w' ⟨rfl, rfl⟩) | (go_at_call_of 49 (Value.int .i64 x); refine (refabs_any _ _ x1 x2).mono ?_; rintro e w' ⟨rfl, rfl⟩) | (go_at_call_of 49 (Value.int .i64 num); refine (refabs_any _ _ n1 n2).mono ?_; rintro e w' ⟨rfl, rfl⟩))
  refine (c _).out.mono ?_
  rintro e w' ⟨rfl, n, rfl⟩
  go_wp2_with fail
  refine (refchecked_any _ _).mono ?_
  rintro e w' ⟨rfl, rfl⟩
  go_wp2_with fail
  go_ret2
  exact mdpost_chk (by decide) (by decide) H.out hv.out ⟨_, rfl⟩
theorem refmd_m2oT (x num den : Int) (w : World) (h : okArgs x num den) (hq : absP x num / den ≤ 2000000000000000) (hn : (!(decide (x < 0) == decide (num < 0))) = true) (hr : 0 < absP x num % den) (hg : ¬ den < 2 * (absP x num % den)) (hE : 2 * (absP x num % den) = den) (ho : absP x num / den % 2 = 1) : Calls Tryd.prog 37 #[.int .i64 x, .int .i64 num, .int .i64 den, .int .i64 2] w (MdPost x num den 2 w) := by
  have hv : Hid (mdQ x num den 2 = -(absP x num / den + 1)) := hide (by simp [mdQ, rnd, upB, negB, hn, hr, hE, ho])
  have H := hide h
  have c := fun w => hide (refquo_in x num den w h hq)
  have p1 : 0 ≤ absP x num / den := Int.ediv_nonneg (absP_bd x num h.1 h.2.1).1 (by have := h.2.2.1; omega)
  have p2 : 0 ≤ absP x num % den := Int.emod_nonneg _ (by have := h.2.2.1; omega)
  have p3 : absP x num % den < den := Int.emod_lt_of_pos _ (by have := h.2.2.1; omega)
  obtain ⟨hx, hm, d1, d2⟩ := h
  have bx := okB_yes hx
  have bn := okB_yes hm
  obtain ⟨x1, x2⟩ := hx
  obtain ⟨n1, n2⟩ := hm
  have hE1 : (2 * (absP x num % den) == den) = true := by simpa using hE
  have ho1 : (absP x num / den % 2 == 1) = true := by simpa using ho
  clear hE ho
  go_enter Tryd.func37, Tryd.ntmps37
  go_wp2_with (first | (go_at_call 48; refine (refvalid_any _ _).mono ?_; rintro e w' ⟨rfl, rfl⟩) | (go_at_call_of 49 (Value.int .i64 x); refine (refabs_any _ _ x1 x2).mono ?_; rintro e w' ⟨rfl, rfl⟩) | (go_at_call_of 49 (Value.int .i64 num); refine (refabs_any _ _ n1 n2).mono ?_; rintro e w' ⟨rfl, rfl⟩))
  refine (c _).out.mono ?_
  rintro e w' ⟨rfl, n, rfl⟩
  go_wp2_with fail
  refine (refchecked_any _ _).mono ?_
  rintro e w' ⟨rfl, rfl⟩
  go_wp2_with fail
  go_ret2
  exact mdpost_chk (by decide) (by decide) H.out hv.out ⟨_, rfl⟩
theorem refmd_m2eT (x num den : Int) (w : World) (h : okArgs x num den) (hq : absP x num / den ≤ 2000000000000000) (hn : (!(decide (x < 0) == decide (num < 0))) = true) (hg : ¬ den < 2 * (absP x num % den)) (hE : 2 * (absP x num % den) = den) (ho : ¬ absP x num / den % 2 = 1) : Calls Tryd.prog 37 #[.int .i64 x, .int .i64 num, .int .i64 den, .int .i64 2] w (MdPost x num den 2 w) := by
  have hv : Hid (mdQ x num den 2 = -(absP x num / den)) := hide (by simp [mdQ, rnd, upB, negB, hn, hE, ho])
  have H := hide h
  have c := fun w => hide (refquo_in x num den w h hq)
  have p1 : 0 ≤ absP x num / den := Int.ediv_nonneg (absP_bd x num h.1 h.2.1).1 (by have := h.2.2.1; omega)
  have p2 : 0 ≤ absP x num % den := Int.emod_nonneg _ (by have := h.2.2.1; omega)
  have p3 : absP x num % den < den := Int.emod_lt_of_pos _ (by have := h.2.2.1; omega)
  obtain ⟨hx, hm, d1, d2⟩ := h
  have bx := okB_yes hx
  have bn := okB_yes hm
  obtain ⟨x1, x2⟩ := hx
  obtain ⟨n1, n2⟩ := hm
  have hE1 : (2 * (absP x num % den) == den) = true := by simpa using hE
  have ho1 : (absP x num / den % 2 == 1) = false := by simpa using ho
  clear hE ho
  go_enter Tryd.func37, Tryd.ntmps37
  go_wp2_with (first | (go_at_call 48; refine (refvalid_any _ _).mono ?_; rintro e w' ⟨rfl, rfl⟩) | (go_at_call_of 49 (Value.int .i64 x); refine (refabs_any _ _ x1 x2).mono ?_; rintro e w' ⟨rfl, rfl⟩) | (go_at_call_of 49 (Value.int .i64 num); refine (refabs_any _ _ n1 n2).mono ?_; rintro e w' ⟨rfl, rfl⟩))
  refine (c _).out.mono ?_
  rintro e w' ⟨rfl, n, rfl⟩
  go_wp2_with fail
  refine (refchecked_any _ _).mono ?_
  rintro e w' ⟨rfl, rfl⟩
  go_wp2_with fail
  go_ret2
  exact mdpost_chk (by decide) (by decide) H.out hv.out ⟨_, rfl⟩
theorem refmd_m2nT (x num den : Int) (w : World) (h : okArgs x num den) (hq : absP x num / den ≤ 2000000000000000) (hn : (!(decide (x < 0) == decide (num < 0))) = true) (hg : ¬ den < 2 * (absP x num % den)) (hE : ¬ 2 * (absP x num % den) = den) : Calls Tryd.prog 37 #[.int .i64 x, .int .i64 num, .int .i64 den, .int .i64 2] w (MdPost x num den 2 w) := by
  have hv : Hid (mdQ x num den 2 = -(absP x num / den)) := hide (by simp [mdQ, rnd, upB, negB, hn, hg, hE])
  have H := hide h
  have c := fun w => hide (refquo_in x num den w h hq)
  have p1 : 0 ≤ absP x num / den := Int.ediv_nonneg (absP_bd x num h.1 h.2.1).1 (by have := h.2.2.1; omega)
  have p2 : 0 ≤ absP x num % den := Int.emod_nonneg _ (by have := h.2.2.1; omega)
  have p3 : absP x num % den < den := Int.emod_lt_of_pos _ (by have := h.2.2.1; omega)
  obtain ⟨hx, hm, d1, d2⟩ := h
  have bx := okB_yes hx
  have bn := okB_yes hm
  obtain ⟨x1, x2⟩ := hx
  obtain ⟨n1, n2⟩ := hm
  have hE1 : (2 * (absP x num % den) == den) = false := by simpa using hE
  clear hE
  go_enter Tryd.func37, Tryd.ntmps37
  go_wp2_with (first | (go_at_call 48; refine (refvalid_any _ _).mono ?_; rintro e w' ⟨rfl, rfl⟩) | (go_at_call_of 49 (Value.int .i64 x); refine (refabs_any _ _ x1 x2).mono ?_; rintro e w' ⟨rfl, rfl⟩) | (go_at_call_of 49 (Value.int .i64 num); refine (refabs_any _ _ n1 n2).mono ?_; rintro e w' ⟨rfl, rfl⟩))
  refine (c _).out.mono ?_
  rintro e w' ⟨rfl, n, rfl⟩
  go_wp2_with fail
  refine (refchecked_any _ _).mono ?_
  rintro e w' ⟨rfl, rfl⟩
  go_wp2_with fail
  go_ret2
  exact mdpost_chk (by decide) (by decide) H.out hv.out ⟨_, rfl⟩
theorem refmd_m2gF (x num den : Int) (w : World) (h : okArgs x num den) (hq : absP x num / den ≤ 2000000000000000) (hn : (!(decide (x < 0) == decide (num < 0))) = false) (hr : 0 < absP x num % den) (hg : den < 2 * (absP x num % den)) : Calls Tryd.prog 37 #[.int .i64 x, .int .i64 num, .int .i64 den, .int .i64 2] w (MdPost x num den 2 w) := by
  have hv : Hid (mdQ x num den 2 = absP x num / den + 1) := hide (by simp [mdQ, rnd, upB, negB, hn, hr, hg])
  have H := hide h
  have c := fun w => hide (refquo_in x num den w h hq)
  have p1 : 0 ≤ absP x num / den := Int.ediv_nonneg (absP_bd x num h.1 h.2.1).1 (by have := h.2.2.1; omega)
  have p2 : 0 ≤ absP x num % den := Int.emod_nonneg _ (by have := h.2.2.1; omega)
  have p3 : absP x num % den < den := Int.emod_lt_of_pos _ (by have := h.2.2.1; omega)
  obtain ⟨hx, hm, d1, d2⟩ := h
  have bx := okB_yes hx
  have bn := okB_yes hm
  obtain ⟨x1, x2⟩ := hx
  obtain ⟨n1, n2⟩ := hm
  go_enter Tryd.func37, Tryd.ntmps37
  go_wp2_with (first | (go_at_call 48; refine (refvalid_any _ _).mono ?_; rintro e w' ⟨rfl, rfl⟩) | (go_at_call_of 49 (Value.int .i64 x); refine (refabs_any _ _ x1 x2).mono ?_; rintro e w' ⟨rfl, rfl⟩) | (go_at_call_of 49 (Value.int .i64 num); refine (refabs_any _ _ n1 n2).mono ?_; rintro e w' ⟨rfl, rfl⟩))
  refine (c _).out.mono ?_
  rintro e w' ⟨rfl, n, rfl⟩
  go_wp2_with fail
  refine (refchecked_any _ _).mono ?_
  rintro e w' ⟨rfl, rfl⟩
  go_wp2_with fail
  go_ret2
  exact mdpost_chk (by decide) (by decide) H.out hv.out ⟨_, rfl⟩
theorem refmd_m2oF (x num den : Int) (w : World) (h : okArgs x num den) (hq : absP x num / den ≤ 2000000000000000) (hn : (!(decide (x < 0) == decide (num < 0))) = false) (hr : 0 < absP x num % den) (hg : ¬ den < 2 * (absP x num % den)) (hE : 2 * (absP x num % den) = den) (ho : absP x num / den % 2 = 1) : Calls Tryd.prog 37 #[.int .i64 x, .int .i64 num, .int .i64 den, .int .i64 2] w (MdPost x num den 2 w) := by
  have hv : Hid (mdQ x num den 2 = absP x num / den + 1) := hide (by simp [mdQ, rnd, upB, negB, hn, hr, hE, ho])
  have H := hide h
  have c := fun w => hide (refquo_in x num den w h hq)
  have p1 : 0 ≤ absP x num / den := Int.ediv_nonneg (absP_bd x num h.1 h.2.1).1 (by have := h.2.2.1; omega)
  have p2 : 0 ≤ absP x num % den := Int.emod_nonneg _ (by have := h.2.2.1; omega)
  have p3 : absP x num % den < den := Int.emod_lt_of_pos _ (by have := h.2.2.1; omega)
  obtain ⟨hx, hm, d1, d2⟩ := h
  have bx := okB_yes hx
  have bn := okB_yes hm
  obtain ⟨x1, x2⟩ := hx
  obtain ⟨n1, n2⟩ := hm
  have hE1 : (2 * (absP x num % den) == den) = true := by simpa using hE
  have ho1 : (absP x num / den % 2 == 1) = true := by simpa using ho
  clear hE ho
  go_enter Tryd.func37, Tryd.ntmps37
  go_wp2_with (first | (go_at_call 48; refine (refvalid_any _ _).mono ?_; rintro e w' ⟨rfl, rfl⟩) | (go_at_call_of 49 (Value.int .i64 x); refine (refabs_any _ _ x1 x2).mono ?_; rintro e w' ⟨rfl, rfl⟩) | (go_at_call_of 49 (Value.int .i64 num); refine (refabs_any _ _ n1 n2).mono ?_; rintro e w' ⟨rfl, rfl⟩))
  refine (c _).out.mono ?_
  rintro e w' ⟨rfl, n, rfl⟩
  go_wp2_with fail
  refine (refchecked_any _ _).mono ?_
  rintro e w' ⟨rfl, rfl⟩
  go_wp2_with fail
  go_ret2
  exact mdpost_chk (by decide) (by decide) H.out hv.out ⟨_, rfl⟩
theorem refmd_m2eF (x num den : Int) (w : World) (h : okArgs x num den) (hq : absP x num / den ≤ 2000000000000000) (hn : (!(decide (x < 0) == decide (num < 0))) = false) (hg : ¬ den < 2 * (absP x num % den)) (hE : 2 * (absP x num % den) = den) (ho : ¬ absP x num / den % 2 = 1) : Calls Tryd.prog 37 #[.int .i64 x, .int .i64 num, .int .i64 den, .int .i64 2] w (MdPost x num den 2 w) := by
  have hv : Hid (mdQ x num den 2 = absP x num / den) := hide (by simp [mdQ, rnd, upB, negB, hn, hE, ho])
  have H := hide h
  have c := fun w => hide (refquo_in x num den w h hq)
  have p1 : 0 ≤ absP x num / den := Int.ediv_nonneg (absP_bd x num h.1 h.2.1).1 (by have := h.2.2.1; omega)
  have p2 : 0 ≤ absP x num % den := Int.emod_nonneg _ (by have := h.2.2.1; omega)
  have p3 : absP x num % den < den := Int.emod_lt_of_pos _ (by have := h.2.2.1; omega)
  obtain ⟨hx, hm, d1, d2⟩ := h
  have bx := okB_yes hx
  have bn := okB_yes hm
  obtain ⟨x1, x2⟩ := hx
  obtain ⟨n1, n2⟩ := hm
  have hE1 : (2 * (absP x num % den) == den) = true := by simpa using hE
  have ho1 : (absP x num / den % 2 == 1) = false := by simpa using ho
  clear hE ho
  go_enter Tryd.func37, Tryd.ntmps37
  go_wp2_with (first | (go_at_call 48; refine (refvalid_any _ _).mono ?_; rintro e w' ⟨rfl, rfl⟩) | (go_at_call_of 49 (Value.int .i64 x); refine (refabs_any _ _ x1 x2).mono ?_; rintro e w' ⟨rfl, rfl⟩) | (go_at_call_of 49 (Value.int .i64 num); refine (refabs_any _ _ n1 n2).mono ?_; rintro e w' ⟨rfl, rfl⟩))
  refine (c _).out.mono ?_
  rintro e w' ⟨rfl, n, rfl⟩
  go_wp2_with fail
  refine (refchecked_any _ _).mono ?_
  rintro e w' ⟨rfl, rfl⟩
  go_wp2_with fail
  go_ret2
  exact mdpost_chk (by decide) (by decide) H.out hv.out ⟨_, rfl⟩
theorem refmd_m2nF (x num den : Int) (w : World) (h : okArgs x num den) (hq : absP x num / den ≤ 2000000000000000) (hn : (!(decide (x < 0) == decide (num < 0))) = false) (hg : ¬ den < 2 * (absP x num % den)) (hE : ¬ 2 * (absP x num % den) = den) : Calls Tryd.prog 37 #[.int .i64 x, .int .i64 num, .int .i64 den, .int .i64 2] w (MdPost x num den 2 w) := by
  have hv : Hid (mdQ x num den 2 = absP x num / den) := hide (by simp [mdQ, rnd, upB, negB, hn, hg, hE])
  have H := hide h
  have c := fun w => hide (refquo_in x num den w h hq)
  have p1 : 0 ≤ absP x num / den := Int.ediv_nonneg (absP_bd x num h.1 h.2.1).1 (by have := h.2.2.1; omega)
  have p2 : 0 ≤ absP x num % den := Int.emod_nonneg _ (by have := h.2.2.1; omega)
  have p3 : absP x num % den < den := Int.emod_lt_of_pos _ (by have := h.2.2.1; omega)
  obtain ⟨hx, hm, d1, d2⟩ := h
  have bx := okB_yes hx
  have bn := okB_yes hm
  obtain ⟨x1, x2⟩ := hx
  obtain ⟨n1, n2⟩ := hm
  have hE1 : (2 * (absP x num % den) == den) = false := by simpa using hE
  clear hE
  go_enter Tryd.func37, Tryd.ntmps37
  go_wp2_with (first | (go_at_call 48; refine (refvalid_any _ _).mono ?_; rintro e w' ⟨rfl, rfl⟩) | (go_at_call_of 49 (Value.int .i64 x); refine (refabs_any _ _ x1 x2).mono ?_; rintro e w' ⟨rfl, rfl⟩) | (go_at_call_of 49 (Value.int .i64 num); refine (refabs_any _ _ n1 n2).mono ?_; rintro e w' ⟨rfl, rfl⟩))
  refine (c _).out.mono ?_
  rintro e w' ⟨rfl, n, rfl⟩
  go_wp2_with fail
  refine (refchecked_any _ _).mono ?_
  rintro e w' ⟨rfl, rfl⟩
  go_wp2_with fail
  go_ret2
  exact mdpost_chk (by decide) (by decide) H.out hv.out ⟨_, rfl⟩
theorem refmd_m3T (x num den : Int) (w : World) (h : okArgs x num den) (hq : absP x num / den ≤ 2000000000000000) (hn : (!(decide (x < 0) == decide (num < 0))) = true)  : Calls Tryd.prog 37 #[.int .i64 x, .int .i64 num, .int .i64 den, .int .i64 3] w (MdPost x num den 3 w) := by
  have hv : Hid (mdQ x num den 3 = -(absP x num / den)) := hide (by simp [mdQ, rnd, upB, negB, hn])
  have H := hide h
  have c := fun w => hide (refquo_in x num den w h hq)
  have p1 : 0 ≤ absP x num / den := Int.ediv_nonneg (absP_bd x num h.1 h.2.1).1 (by have := h.2.2.1; omega)
  have p2 : 0 ≤ absP x num % den := Int.emod_nonneg _ (by have := h.2.2.1; omega)
  have p3 : absP x num % den < den := Int.emod_lt_of_pos _ (by have := h.2.2.1; omega)
  obtain ⟨hx, hm, d1, d2⟩ := h
  have bx := okB_yes hx
  have bn := okB_yes hm
  obtain ⟨x1, x2⟩ := hx
  obtain ⟨n1, n2⟩ := hm
  go_enter Tryd.func37, Tryd.ntmps37
  go_wp2_with (first | (go_at_call 48; refine (refvalid_any _ _).mono ?_; rintro e w' ⟨rfl, rfl⟩) | (go_at_call_of 49 (Value.int .i64 x); refine (refabs_any _ _ x1 x2).mono ?_; rintro e w' ⟨rfl, rfl⟩) | (go_at_call_of 49 (Value.int .i64 num); refine (refabs_any _ _ n1 n2).mono ?_; rintro e w' ⟨rfl, rfl⟩))
  refine (c _).out.mono ?_
  rintro e w' ⟨rfl, n, rfl⟩
  go_wp2_with fail
  refine (refchecked_any _ _).mono ?_
  rintro e w' ⟨rfl, rfl⟩
  go_wp2_with fail
  go_ret2
  exact mdpost_chk (by decide) (by decide) H.out hv.out ⟨_, rfl⟩
theorem refmd_m3F (x num den : Int) (w : World) (h : okArgs x num den) (hq : absP x num / den ≤ 2000000000000000) (hn : (!(decide (x < 0) == decide (num < 0))) = false)  : Calls Tryd.prog 37 #[.int .i64 x, .int .i64 num, .int .i64 den, .int .i64 3] w (MdPost x num den 3 w) := by
  have hv : Hid (mdQ x num den 3 = absP x num / den) := hide (by simp [mdQ, rnd, upB, negB, hn])
  have H := hide h
  have c := fun w => hide (refquo_in x num den w h hq)
  have p1 : 0 ≤ absP x num / den := Int.ediv_nonneg (absP_bd x num h.1 h.2.1).1 (by have := h.2.2.1; omega)
  have p2 : 0 ≤ absP x num % den := Int.emod_nonneg _ (by have := h.2.2.1; omega)
  have p3 : absP x num % den < den := Int.emod_lt_of_pos _ (by have := h.2.2.1; omega)
  obtain ⟨hx, hm, d1, d2⟩ := h
  have bx := okB_yes hx
  have bn := okB_yes hm
  obtain ⟨x1, x2⟩ := hx
  obtain ⟨n1, n2⟩ := hm
  go_enter Tryd.func37, Tryd.ntmps37
  go_wp2_with (first | (go_at_call 48; refine (refvalid_any _ _).mono ?_; rintro e w' ⟨rfl, rfl⟩) | (go_at_call_of 49 (Value.int .i64 x); refine (refabs_any _ _ x1 x2).mono ?_; rintro e w' ⟨rfl, rfl⟩) | (go_at_call_of 49 (Value.int .i64 num); refine (refabs_any _ _ n1 n2).mono ?_; rintro e w' ⟨rfl, rfl⟩))
  refine (c _).out.mono ?_
  rintro e w' ⟨rfl, n, rfl⟩
  go_wp2_with fail
  refine (refchecked_any _ _).mono ?_
  rintro e w' ⟨rfl, rfl⟩
  go_wp2_with fail
  go_ret2
  exact mdpost_chk (by decide) (by decide) H.out hv.out ⟨_, rfl⟩

theorem refmd_in (x num den mode : Int) (w : World) (m1 : 0 ≤ mode) (m2 : mode ≤ 3) (h : okArgs x num den) (hq : absP x num / den ≤ 2000000000000000) : Calls Tryd.prog 37 #[.int .i64 x, .int .i64 num, .int .i64 den, .int .i64 mode] w (MdPost x num den mode w) := by
  have hm : mode = 0 ∨ mode = 1 ∨ mode = 2 ∨ mode = 3 := by omega
  cases hn : (!(decide (x < 0) == decide (num < 0)))
  · rcases hm with rfl | rfl | rfl | rfl
    · exact refmd_m0c x num den w h hq hn
    · by_cases hr : 0 < absP x num % den
      · exact refmd_m1a x num den w h hq hn hr
      · exact refmd_m1b x num den w h hq hn hr
    · by_cases hg : den < 2 * (absP x num % den)
      · exact refmd_m2gF x num den w h hq hn (by have := h.2.2.1; omega) hg
      · by_cases hE : 2 * (absP x num % den) = den
        · by_cases ho : absP x num / den % 2 = 1
          · exact refmd_m2oF x num den w h hq hn (by have := h.2.2.1; omega) hg hE ho
          · exact refmd_m2eF x num den w h hq hn hg hE ho
        · exact refmd_m2nF x num den w h hq hn hg hE
    · exact refmd_m3F x num den w h hq hn
  · rcases hm with rfl | rfl | rfl | rfl
    · by_cases hr : 0 < absP x num % den
      · exact refmd_m0a x num den w h hq hn hr
      · exact refmd_m0b x num den w h hq hn hr
    · exact refmd_m1c x num den w h hq hn
    · by_cases hg : den < 2 * (absP x num % den)
      · exact refmd_m2gT x num den w h hq hn (by have := h.2.2.1; omega) hg
      · by_cases hE : 2 * (absP x num % den) = den
        · by_cases ho : absP x num / den % 2 = 1
          · exact refmd_m2oT x num den w h hq hn (by have := h.2.2.1; omega) hg hE ho
          · exact refmd_m2eT x num den w h hq hn hg hE ho
        · exact refmd_m2nT x num den w h hq hn hg hE
    · exact refmd_m3T x num den w h hq hn

/-- The reference's MulDiv. -/
theorem refmd_any (x num den mode : Int) (w : World) : Calls Tryd.prog 37 #[.int .i64 x, .int .i64 num, .int .i64 den, .int .i64 mode] w (MdPost x num den mode w) := by
  by_cases hm : mode < 0 ∨ 3 < mode
  · exact refmd_mode x num den mode w hm
  · by_cases h : okArgs x num den
    · by_cases hq : absP x num / den ≤ 2000000000000000
      · exact refmd_in x num den mode w (by omega) (by omega) h hq
      · exact refmd_out x num den mode w (by omega) (by omega) h hq
    · exact refmd_args x num den mode w (by omega) (by omega) h
end Go.Proofs.YtjjaemobgfconaaDoor
