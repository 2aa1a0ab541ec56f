/-
  Contracts of Cash, Allowed and of what is a part, of the program and of the reference, at this translation.
-/
import Derived.Test.YtipgpmjhoaenlaaDoorP5
namespace Go.Proofs.YtipgpmjhoaenlaaDoor
open Go.RowKit
set_option linter.unusedVariables false
set_option linter.unusedSimpArgs false

set_option maxHeartbeats 4000000 in
set_option maxRecDepth 20000 in
theorem cash_any (t : Tr) (n : Int) (w : World) (S : Shp w) (h : t.Ok) : Calls Tryd.prog 10 #[.agg #[.int .i64 t.k, .string t.d, .string t.r, .string t.a, .int .i64 t.q, .int .i64 t.m, .int .i64 t.td, .int .i64 t.sd, .int .i64 t.p, .bool t.pa, .int .i64 t.ml, .string t.r0, .string t.r1], .int .i64 n] w fun e w' => e = .returned (.tuple #[.int .i64 (cV t n), .int .i64 (cE t n)]) ∧ Below w.heap.size w w' := by
  have S := hide S
  have CK := fun w S => hide (tcheck_any t w S h)
  have MD := fun n w => hide (md_any t.m n t.q 0 w h.q.2)
  clear h
  unfold cV cE
  have HR := hide (one_alloc w (Obj.cells #[.int .i64 t.k, .string t.d, .string t.r, .string t.a, .int .i64 t.q, .int .i64 t.m, .int .i64 t.td, .int .i64 t.sd, .int .i64 t.p, .bool t.pa, .int .i64 t.ml, .string t.r0, .string t.r1] 25))
  have HB := hide (TB.new t w 25)
  by_cases hE : tE t = 0
  · have hn : ¬ tE t ≠ 0 := fun h => h hE
    simp only [if_neg hn]
    rw [hE] at CK
    by_cases hr : n < 1 ∨ t.q < n
    · simp only [if_pos hr]
      clear hn hE MD
      by_cases h1 : n < 1
      · clear hr
        go_enter Tryd.func10, Tryd.ntmps10
        obtain ⟨_, c0, c1, c2, c3, c4, c5, c6, c7, c8, c9, c10, c11, c12⟩ := HB.out
        go_wp2_with fail
        refine ((CK _ (S.out.keep HR.out)).out).mono ?_
        rintro e x1 ⟨rfl, hb⟩
        have HB := hide (HB.out.keep hb)
        have HR := hide (HR.out.trans (hb.mono HR.out.size))
        clear hb c0 c1 c2 c3 c4 c5 c6 c7 c8 c9 c10 c11 c12
        obtain ⟨_, c0, c1, c2, c3, c4, c5, c6, c7, c8, c9, c10, c11, c12⟩ := HB.out
        go_wp2_with fail
        go_ret2
        exact ⟨rfl, HR.out⟩
      · have h2 : t.q < n := by omega
        have h1 : 1 ≤ n := by omega
        clear hr
        go_enter Tryd.func10, Tryd.ntmps10
        obtain ⟨_, c0, c1, c2, c3, c4, c5, c6, c7, c8, c9, c10, c11, c12⟩ := HB.out
        go_wp2_with fail
        refine ((CK _ (S.out.keep HR.out)).out).mono ?_
        rintro e x1 ⟨rfl, hb⟩
        have HB := hide (HB.out.keep hb)
        have HR := hide (HR.out.trans (hb.mono HR.out.size))
        clear hb c0 c1 c2 c3 c4 c5 c6 c7 c8 c9 c10 c11 c12
        obtain ⟨_, c0, c1, c2, c3, c4, c5, c6, c7, c8, c9, c10, c11, c12⟩ := HB.out
        go_wp2_with fail
        go_ret2
        exact ⟨rfl, HR.out⟩
    · simp only [if_neg hr]
      have h1 : 1 ≤ n := by omega
      have h2 : n ≤ t.q := by omega
      obtain ⟨e0, v0, _, _⟩ := cash_in hE h1 h2
      have MD := fun w => hide (MD n w).out
      rw [e0, v0] at MD
      clear hn hE hr e0 v0
      generalize csh t n = V at *
      go_enter Tryd.func10, Tryd.ntmps10
      obtain ⟨_, c0, c1, c2, c3, c4, c5, c6, c7, c8, c9, c10, c11, c12⟩ := HB.out
      go_wp2_with fail
      refine ((CK _ (S.out.keep HR.out)).out).mono ?_
      rintro e x1 ⟨rfl, hb⟩
      have HB := hide (HB.out.keep hb)
      have HR := hide (HR.out.trans (hb.mono HR.out.size))
      clear hb c0 c1 c2 c3 c4 c5 c6 c7 c8 c9 c10 c11 c12
      obtain ⟨_, c0, c1, c2, c3, c4, c5, c6, c7, c8, c9, c10, c11, c12⟩ := HB.out
      go_wp2_with fail
      refine ((MD _).out).mono ?_
      rintro e x2 ⟨rfl, hb⟩
      have HB := hide (HB.out.keep hb)
      have HR := hide (HR.out.trans (hb.mono HR.out.size))
      clear hb c0 c1 c2 c3 c4 c5 c6 c7 c8 c9 c10 c11 c12
      go_wp2_with fail
      go_ret2
      exact ⟨rfl, HR.out⟩
  · have hn : tE t ≠ 0 := hE
    simp only [if_pos hn]
    have e1 : (tE t != 0) = true := by simpa using hE
    generalize tE t = E at *
    clear hn hE MD
    go_enter Tryd.func10, Tryd.ntmps10
    obtain ⟨_, c0, c1, c2, c3, c4, c5, c6, c7, c8, c9, c10, c11, c12⟩ := HB.out
    go_wp2_with fail
    refine ((CK _ (S.out.keep HR.out)).out).mono ?_
    rintro e x1 ⟨rfl, hb⟩
    have HB := hide (HB.out.keep hb)
    have HR := hide (HR.out.trans (hb.mono HR.out.size))
    clear hb c0 c1 c2 c3 c4 c5 c6 c7 c8 c9 c10 c11 c12
    go_wp2_with fail
    go_ret2
    exact ⟨rfl, HR.out⟩
set_option maxHeartbeats 4000000 in
set_option maxRecDepth 20000 in
theorem rcash_any (t : Tr) (n : Int) (w : World) (h : t.Ok) : Calls Tryd.prog 11 #[.agg #[.int .i64 t.k, .string t.d, .string t.r, .string t.a, .int .i64 t.q, .int .i64 t.m, .int .i64 t.td, .int .i64 t.sd, .int .i64 t.p, .bool t.pa, .int .i64 t.ml, .string t.r0, .string t.r1], .int .i64 n] w fun e w' => e = .returned (.tuple #[.int .i64 (cV t n), .int .i64 (cE t n)]) ∧ Below w.heap.size w w' := by
  have CK := fun w => hide (rcheck_any t w h)
  have MD := fun n w => hide (rmd_any t.m n t.q 0 w)
  clear h
  unfold cV cE
  have HR := hide (one_alloc w (Obj.cells #[.int .i64 t.k, .string t.d, .string t.r, .string t.a, .int .i64 t.q, .int .i64 t.m, .int .i64 t.td, .int .i64 t.sd, .int .i64 t.p, .bool t.pa, .int .i64 t.ml, .string t.r0, .string t.r1] 24))
  have HB := hide (TB.new t w 24)
  by_cases hE : tE t = 0
  · have hn : ¬ tE t ≠ 0 := fun h => h hE
    simp only [if_neg hn]
    rw [hE] at CK
    by_cases hr : n < 1 ∨ t.q < n
    · simp only [if_pos hr]
      clear hn hE MD
      by_cases h1 : n < 1
      · clear hr
        go_enter Tryd.func11, Tryd.ntmps11
        obtain ⟨_, c0, c1, c2, c3, c4, c5, c6, c7, c8, c9, c10, c11, c12⟩ := HB.out
        go_wp2_with fail
        refine ((CK _).out).mono ?_
        rintro e x1 ⟨rfl, hb⟩
        have HB := hide (HB.out.keep hb)
        have HR := hide (HR.out.trans (hb.mono HR.out.size))
        clear hb c0 c1 c2 c3 c4 c5 c6 c7 c8 c9 c10 c11 c12
        obtain ⟨_, c0, c1, c2, c3, c4, c5, c6, c7, c8, c9, c10, c11, c12⟩ := HB.out
        go_wp2_with fail
        go_ret2
        exact ⟨rfl, HR.out⟩
      · have h2 : t.q < n := by omega
        have h1 : 1 ≤ n := by omega
        clear hr
        go_enter Tryd.func11, Tryd.ntmps11
        obtain ⟨_, c0, c1, c2, c3, c4, c5, c6, c7, c8, c9, c10, c11, c12⟩ := HB.out
        go_wp2_with fail
        refine ((CK _).out).mono ?_
        rintro e x1 ⟨rfl, hb⟩
        have HB := hide (HB.out.keep hb)
        have HR := hide (HR.out.trans (hb.mono HR.out.size))
        clear hb c0 c1 c2 c3 c4 c5 c6 c7 c8 c9 c10 c11 c12
        obtain ⟨_, c0, c1, c2, c3, c4, c5, c6, c7, c8, c9, c10, c11, c12⟩ := HB.out
        go_wp2_with fail
        go_ret2
        exact ⟨rfl, HR.out⟩
    · simp only [if_neg hr]
      have h1 : 1 ≤ n := by omega
      have h2 : n ≤ t.q := by omega
      obtain ⟨e0, v0, _, _⟩ := cash_in hE h1 h2
      have MD := fun w => hide (MD n w).out
      rw [e0, v0] at MD
      clear hn hE hr e0 v0
      generalize csh t n = V at *
      go_enter Tryd.func11, Tryd.ntmps11
      obtain ⟨_, c0, c1, c2, c3, c4, c5, c6, c7, c8, c9, c10, c11, c12⟩ := HB.out
      go_wp2_with fail
      refine ((CK _).out).mono ?_
      rintro e x1 ⟨rfl, hb⟩
      have HB := hide (HB.out.keep hb)
      have HR := hide (HR.out.trans (hb.mono HR.out.size))
      clear hb c0 c1 c2 c3 c4 c5 c6 c7 c8 c9 c10 c11 c12
      obtain ⟨_, c0, c1, c2, c3, c4, c5, c6, c7, c8, c9, c10, c11, c12⟩ := HB.out
      go_wp2_with fail
      refine ((MD _).out).mono ?_
      rintro e x2 ⟨rfl, hb⟩
      have HB := hide (HB.out.keep hb)
      have HR := hide (HR.out.trans (hb.mono HR.out.size))
      clear hb c0 c1 c2 c3 c4 c5 c6 c7 c8 c9 c10 c11 c12
      go_wp2_with fail
      go_ret2
      exact ⟨rfl, HR.out⟩
  · have hn : tE t ≠ 0 := hE
    simp only [if_pos hn]
    have e1 : (tE t != 0) = true := by simpa using hE
    generalize tE t = E at *
    clear hn hE MD
    go_enter Tryd.func11, Tryd.ntmps11
    obtain ⟨_, c0, c1, c2, c3, c4, c5, c6, c7, c8, c9, c10, c11, c12⟩ := HB.out
    go_wp2_with fail
    refine ((CK _).out).mono ?_
    rintro e x1 ⟨rfl, hb⟩
    have HB := hide (HB.out.keep hb)
    have HR := hide (HR.out.trans (hb.mono HR.out.size))
    clear hb c0 c1 c2 c3 c4 c5 c6 c7 c8 c9 c10 c11 c12
    go_wp2_with fail
    go_ret2
    exact ⟨rfl, HR.out⟩
set_option maxHeartbeats 4000000 in
set_option maxRecDepth 20000 in
theorem al_any (t : Tr) (w : World) (S : Shp w) (h : t.Ok) : Calls Tryd.prog 13 #[.agg #[.int .i64 t.k, .string t.d, .string t.r, .string t.a, .int .i64 t.q, .int .i64 t.m, .int .i64 t.td, .int .i64 t.sd, .int .i64 t.p, .bool t.pa, .int .i64 t.ml, .string t.r0, .string t.r1]] w fun e w' => e = .returned (.bool (alB t)) ∧ Below w.heap.size w w' := by
  have S := hide S
  have CK := fun w S => hide (tcheck_any t w S h)
  clear h
  unfold alB
  have HR := hide (one_alloc w (Obj.cells #[.int .i64 t.k, .string t.d, .string t.r, .string t.a, .int .i64 t.q, .int .i64 t.m, .int .i64 t.td, .int .i64 t.sd, .int .i64 t.p, .bool t.pa, .int .i64 t.ml, .string t.r0, .string t.r1] 25))
  have HB := hide (TB.new t w 25)
  by_cases hE : tE t = 0
  · rw [hE] at CK
    rw [decide_eq_true hE, Bool.true_and]
    clear hE
    go_enter Tryd.func13, Tryd.ntmps13
    obtain ⟨_, c0, c1, c2, c3, c4, c5, c6, c7, c8, c9, c10, c11, c12⟩ := HB.out
    go_wp2_with fail
    refine ((CK _ (S.out.keep HR.out)).out).mono ?_
    rintro e x1 ⟨rfl, hb⟩
    have HB := hide (HB.out.keep hb)
    have HR := hide (HR.out.trans (hb.mono HR.out.size))
    clear hb c0 c1 c2 c3 c4 c5 c6 c7 c8 c9 c10 c11 c12
    obtain ⟨_, c0, c1, c2, c3, c4, c5, c6, c7, c8, c9, c10, c11, c12⟩ := HB.out
    go_wp2_with fail
    all_goals
      go_ret
      refine ⟨ret_b ?_, HR.out⟩
      clear c0 c1 c2 c3 c4 c5 c6 c7 c8 c9 c10 c11 c12
      simp_all
  · have e1 : (tE t == 0) = false := by simpa using hE
    rw [decide_eq_false hE, Bool.false_and]
    generalize tE t = E at *
    clear hE
    go_enter Tryd.func13, Tryd.ntmps13
    obtain ⟨_, c0, c1, c2, c3, c4, c5, c6, c7, c8, c9, c10, c11, c12⟩ := HB.out
    go_wp2_with fail
    refine ((CK _ (S.out.keep HR.out)).out).mono ?_
    rintro e x1 ⟨rfl, hb⟩
    have HB := hide (HB.out.keep hb)
    have HR := hide (HR.out.trans (hb.mono HR.out.size))
    clear hb c0 c1 c2 c3 c4 c5 c6 c7 c8 c9 c10 c11 c12
    obtain ⟨_, c0, c1, c2, c3, c4, c5, c6, c7, c8, c9, c10, c11, c12⟩ := HB.out
    go_wp2_with fail
    go_ret
    exact ⟨rfl, HR.out⟩
set_option maxHeartbeats 4000000 in
set_option maxRecDepth 20000 in
theorem ral_any (t : Tr) (w : World) (h : t.Ok) : Calls Tryd.prog 14 #[.agg #[.int .i64 t.k, .string t.d, .string t.r, .string t.a, .int .i64 t.q, .int .i64 t.m, .int .i64 t.td, .int .i64 t.sd, .int .i64 t.p, .bool t.pa, .int .i64 t.ml, .string t.r0, .string t.r1]] w fun e w' => e = .returned (.bool (alB t)) ∧ Below w.heap.size w w' := by
  have CK := fun w => hide (rcheck_any t w h)
  clear h
  unfold alB
  have HR := hide (one_alloc w (Obj.cells #[.int .i64 t.k, .string t.d, .string t.r, .string t.a, .int .i64 t.q, .int .i64 t.m, .int .i64 t.td, .int .i64 t.sd, .int .i64 t.p, .bool t.pa, .int .i64 t.ml, .string t.r0, .string t.r1] 24))
  have HB := hide (TB.new t w 24)
  by_cases hE : tE t = 0
  · rw [hE] at CK
    rw [decide_eq_true hE, Bool.true_and]
    clear hE
    go_enter Tryd.func14, Tryd.ntmps14
    obtain ⟨_, c0, c1, c2, c3, c4, c5, c6, c7, c8, c9, c10, c11, c12⟩ := HB.out
    go_wp2_with fail
    refine ((CK _).out).mono ?_
    rintro e x1 ⟨rfl, hb⟩
    have HB := hide (HB.out.keep hb)
    have HR := hide (HR.out.trans (hb.mono HR.out.size))
    clear hb c0 c1 c2 c3 c4 c5 c6 c7 c8 c9 c10 c11 c12
    obtain ⟨_, c0, c1, c2, c3, c4, c5, c6, c7, c8, c9, c10, c11, c12⟩ := HB.out
    go_wp2_with fail
    all_goals
      go_ret
      refine ⟨ret_b ?_, HR.out⟩
      clear c0 c1 c2 c3 c4 c5 c6 c7 c8 c9 c10 c11 c12
      simp_all
  · have e1 : (tE t == 0) = false := by simpa using hE
    rw [decide_eq_false hE, Bool.false_and]
    generalize tE t = E at *
    clear hE
    go_enter Tryd.func14, Tryd.ntmps14
    obtain ⟨_, c0, c1, c2, c3, c4, c5, c6, c7, c8, c9, c10, c11, c12⟩ := HB.out
    go_wp2_with fail
    refine ((CK _).out).mono ?_
    rintro e x1 ⟨rfl, hb⟩
    have HB := hide (HB.out.keep hb)
    have HR := hide (HR.out.trans (hb.mono HR.out.size))
    clear hb c0 c1 c2 c3 c4 c5 c6 c7 c8 c9 c10 c11 c12
    obtain ⟨_, c0, c1, c2, c3, c4, c5, c6, c7, c8, c9, c10, c11, c12⟩ := HB.out
    go_wp2_with fail
    go_ret
    exact ⟨rfl, HR.out⟩
set_option maxHeartbeats 4000000 in
set_option maxRecDepth 20000 in
theorem part_any (t : Tr) (n : Int) (w : World) (S : Shp w) (h : t.Ok) (ha : alB t = true) : Calls Tryd.prog 27 #[.agg #[.int .i64 t.k, .string t.d, .string t.r, .string t.a, .int .i64 t.q, .int .i64 t.m, .int .i64 t.td, .int .i64 t.sd, .int .i64 t.p, .bool t.pa, .int .i64 t.ml, .string t.r0, .string t.r1], .int .i64 n] w fun e w' => e = .returned (.bool (ptB t n)) ∧ Below w.heap.size w w' := by
  obtain ⟨a1, a2, a3⟩ := alB_iff.1 ha
  have g := good_of a1
  obtain ⟨l1, l2⟩ := g.la a2
  have lq := g.q2
  have S := hide S
  have CK := fun w S => hide (cash_any t n w S h)
  have lz : (t.ml == 0) = false := by simpa using (show ¬ t.ml = 0 by omega)
  have hc : 1 ≤ n → n < t.q → cE t n = 0 ∧ cV t n = csh t n := fun h1 h2 => by
    unfold cE cV
    rw [if_neg (fun h => h a1), if_neg (by omega), if_neg (fun h => h a1), if_neg (by omega)]
    exact ⟨rfl, rfl⟩
  clear h ha a1 a2 a3 g l2
  unfold ptB
  have HR := hide (one_alloc w (Obj.cells #[.int .i64 t.k, .string t.d, .string t.r, .string t.a, .int .i64 t.q, .int .i64 t.m, .int .i64 t.td, .int .i64 t.sd, .int .i64 t.p, .bool t.pa, .int .i64 t.ml, .string t.r0, .string t.r1] 25))
  have HB := hide (TB.new t w 25)
  by_cases h1 : 1 ≤ n
  · rw [decide_eq_true h1, Bool.true_and]
    by_cases h2 : n < t.q
    · rw [decide_eq_true h2, Bool.true_and]
      have et : n.tmod t.ml = n % t.ml := Int.tmod_eq_emod_of_nonneg (by omega)
      by_cases h3 : n % t.ml = 0
      · rw [decide_eq_true h3, Bool.true_and]
        have m1 : (n.tmod t.ml != 0) = false := by rw [et, h3]; rfl
        have m2 : (n % t.ml != 0) = false := by rw [h3]; rfl
        obtain ⟨e0, v0⟩ := hc h1 h2
        rw [e0, v0] at CK
        clear hc e0 v0 et h3
        generalize csh t n = V at *
        by_cases hk : t.k = 1
        · have k1 : (t.k != 1) = false := by simpa using hk
          have kd : decide (t.k ≠ 1) = false := decide_eq_false (fun h => h hk)
          rw [kd, Bool.false_or]
          clear hk kd
          go_enter Tryd.func27, Tryd.ntmps27
          obtain ⟨_, c0, c1, c2, c3, c4, c5, c6, c7, c8, c9, c10, c11, c12⟩ := HB.out
          go_wp2_with fail
          refine ((CK _ (S.out.keep HR.out)).out).mono ?_
          rintro e x1 ⟨rfl, hb⟩
          have HB := hide (HB.out.keep hb)
          have HR := hide (HR.out.trans (hb.mono HR.out.size))
          clear hb c0 c1 c2 c3 c4 c5 c6 c7 c8 c9 c10 c11 c12
          obtain ⟨_, c0, c1, c2, c3, c4, c5, c6, c7, c8, c9, c10, c11, c12⟩ := HB.out
          go_wp2_with fail
          go_ret
          exact ⟨rfl, HR.out⟩
        · have k1 : (t.k != 1) = true := by simpa using hk
          have kd : decide (t.k ≠ 1) = true := decide_eq_true hk
          rw [kd, Bool.true_or]
          clear hk kd
          go_enter Tryd.func27, Tryd.ntmps27
          obtain ⟨_, c0, c1, c2, c3, c4, c5, c6, c7, c8, c9, c10, c11, c12⟩ := HB.out
          go_wp2_with fail
          refine ((CK _ (S.out.keep HR.out)).out).mono ?_
          rintro e x1 ⟨rfl, hb⟩
          have HB := hide (HB.out.keep hb)
          have HR := hide (HR.out.trans (hb.mono HR.out.size))
          clear hb c0 c1 c2 c3 c4 c5 c6 c7 c8 c9 c10 c11 c12
          obtain ⟨_, c0, c1, c2, c3, c4, c5, c6, c7, c8, c9, c10, c11, c12⟩ := HB.out
          go_wp2_with fail
          go_ret
          exact ⟨rfl, HR.out⟩
      · rw [decide_eq_false h3, Bool.false_and]
        have m1 : (n.tmod t.ml != 0) = true := by rw [et]; simpa using h3
        have m2 : (n % t.ml != 0) = true := by simpa using h3
        clear hc CK et h3
        go_enter Tryd.func27, Tryd.ntmps27
        obtain ⟨_, c0, c1, c2, c3, c4, c5, c6, c7, c8, c9, c10, c11, c12⟩ := HB.out
        go_wp2_with fail
        go_ret
        exact ⟨rfl, HR.out⟩
    · rw [decide_eq_false h2, Bool.false_and]
      have h2 : t.q ≤ n := by omega
      clear hc CK
      go_enter Tryd.func27, Tryd.ntmps27
      obtain ⟨_, c0, c1, c2, c3, c4, c5, c6, c7, c8, c9, c10, c11, c12⟩ := HB.out
      go_wp2_with fail
      go_ret
      exact ⟨rfl, HR.out⟩
  · rw [decide_eq_false h1, Bool.false_and]
    have h1 : n < 1 := by omega
    clear hc CK
    go_enter Tryd.func27, Tryd.ntmps27
    obtain ⟨_, c0, c1, c2, c3, c4, c5, c6, c7, c8, c9, c10, c11, c12⟩ := HB.out
    go_wp2_with fail
    go_ret
    exact ⟨rfl, HR.out⟩
set_option maxHeartbeats 4000000 in
set_option maxRecDepth 20000 in
theorem rpart_any (t : Tr) (n : Int) (w : World) (h : t.Ok) (ha : alB t = true) : Calls Tryd.prog 28 #[.agg #[.int .i64 t.k, .string t.d, .string t.r, .string t.a, .int .i64 t.q, .int .i64 t.m, .int .i64 t.td, .int .i64 t.sd, .int .i64 t.p, .bool t.pa, .int .i64 t.ml, .string t.r0, .string t.r1], .int .i64 n] w fun e w' => e = .returned (.bool (ptB t n)) ∧ Below w.heap.size w w' := by
  obtain ⟨a1, a2, a3⟩ := alB_iff.1 ha
  have g := good_of a1
  obtain ⟨l1, l2⟩ := g.la a2
  have lq := g.q2
  have CK := fun w => hide (rcash_any t n w h)
  have lz : (t.ml == 0) = false := by simpa using (show ¬ t.ml = 0 by omega)
  have hc : 1 ≤ n → n < t.q → cE t n = 0 ∧ cV t n = csh t n := fun h1 h2 => by
    unfold cE cV
    rw [if_neg (fun h => h a1), if_neg (by omega), if_neg (fun h => h a1), if_neg (by omega)]
    exact ⟨rfl, rfl⟩
  clear h ha a1 a2 a3 g l2
  unfold ptB
  have HR := hide (one_alloc w (Obj.cells #[.int .i64 t.k, .string t.d, .string t.r, .string t.a, .int .i64 t.q, .int .i64 t.m, .int .i64 t.td, .int .i64 t.sd, .int .i64 t.p, .bool t.pa, .int .i64 t.ml, .string t.r0, .string t.r1] 24))
  have HB := hide (TB.new t w 24)
  by_cases h1 : 1 ≤ n
  · rw [decide_eq_true h1, Bool.true_and]
    by_cases h2 : n < t.q
    · rw [decide_eq_true h2, Bool.true_and]
      have et : n.tmod t.ml = n % t.ml := Int.tmod_eq_emod_of_nonneg (by omega)
      by_cases h3 : n % t.ml = 0
      · rw [decide_eq_true h3, Bool.true_and]
        have m1 : (n.tmod t.ml != 0) = false := by rw [et, h3]; rfl
        have m2 : (n % t.ml != 0) = false := by rw [h3]; rfl
        obtain ⟨e0, v0⟩ := hc h1 h2
        rw [e0, v0] at CK
        clear hc e0 v0 et h3
        generalize csh t n = V at *
        by_cases hk : t.k = 1
        · have k1 : (t.k != 1) = false := by simpa using hk
          have kd : decide (t.k ≠ 1) = false := decide_eq_false (fun h => h hk)
          rw [kd, Bool.false_or]
          clear hk kd
          go_enter Tryd.func28, Tryd.ntmps28
          obtain ⟨_, c0, c1, c2, c3, c4, c5, c6, c7, c8, c9, c10, c11, c12⟩ := HB.out
          go_wp2_with fail
          refine ((CK _).out).mono ?_
          rintro e x1 ⟨rfl, hb⟩
          have HB := hide (HB.out.keep hb)
          have HR := hide (HR.out.trans (hb.mono HR.out.size))
          clear hb c0 c1 c2 c3 c4 c5 c6 c7 c8 c9 c10 c11 c12
          obtain ⟨_, c0, c1, c2, c3, c4, c5, c6, c7, c8, c9, c10, c11, c12⟩ := HB.out
          go_wp2_with fail
          go_ret
          exact ⟨rfl, HR.out⟩
        · have k1 : (t.k != 1) = true := by simpa using hk
          have kd : decide (t.k ≠ 1) = true := decide_eq_true hk
          rw [kd, Bool.true_or]
          clear hk kd
          go_enter Tryd.func28, Tryd.ntmps28
          obtain ⟨_, c0, c1, c2, c3, c4, c5, c6, c7, c8, c9, c10, c11, c12⟩ := HB.out
          go_wp2_with fail
          refine ((CK _).out).mono ?_
          rintro e x1 ⟨rfl, hb⟩
          have HB := hide (HB.out.keep hb)
          have HR := hide (HR.out.trans (hb.mono HR.out.size))
          clear hb c0 c1 c2 c3 c4 c5 c6 c7 c8 c9 c10 c11 c12
          obtain ⟨_, c0, c1, c2, c3, c4, c5, c6, c7, c8, c9, c10, c11, c12⟩ := HB.out
          go_wp2_with fail
          go_ret
          exact ⟨rfl, HR.out⟩
      · rw [decide_eq_false h3, Bool.false_and]
        have m1 : (n.tmod t.ml != 0) = true := by rw [et]; simpa using h3
        have m2 : (n % t.ml != 0) = true := by simpa using h3
        clear hc CK et h3
        go_enter Tryd.func28, Tryd.ntmps28
        obtain ⟨_, c0, c1, c2, c3, c4, c5, c6, c7, c8, c9, c10, c11, c12⟩ := HB.out
        go_wp2_with fail
        go_ret
        exact ⟨rfl, HR.out⟩
    · rw [decide_eq_false h2, Bool.false_and]
      have h2 : t.q ≤ n := by omega
      clear hc CK
      go_enter Tryd.func28, Tryd.ntmps28
      obtain ⟨_, c0, c1, c2, c3, c4, c5, c6, c7, c8, c9, c10, c11, c12⟩ := HB.out
      go_wp2_with fail
      go_ret
      exact ⟨rfl, HR.out⟩
  · rw [decide_eq_false h1, Bool.false_and]
    have h1 : n < 1 := by omega
    clear hc CK
    go_enter Tryd.func28, Tryd.ntmps28
    obtain ⟨_, c0, c1, c2, c3, c4, c5, c6, c7, c8, c9, c10, c11, c12⟩ := HB.out
    go_wp2_with fail
    go_ret
    exact ⟨rfl, HR.out⟩
end Go.Proofs.YtipgpmjhoaenlaaDoor
