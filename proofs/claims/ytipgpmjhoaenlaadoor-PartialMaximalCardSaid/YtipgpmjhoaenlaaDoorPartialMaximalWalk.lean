/-
  The walk of PartialMaximal.
-/
import Derived.Test.YtipgpmjhoaenlaaDoorP11
import Derived.Test.YtipgpmjhoaenlaaDoorP12
namespace Go.Proofs.YtipgpmjhoaenlaaDoor
open Go.RowKit
set_option linter.unusedVariables false
set_option linter.unusedSimpArgs false
set_option linter.unnecessarySimpa false

theorem wfi {a : Int} (h : (Lit.int .i64 a).wf = true) : -9223372036854775808 ≤ a ∧ a ≤ 9223372036854775807 := by
  simp [Lit.wf] at h; simp [IntKind.min, IntKind.signed, IntKind.bits] at h; omega
theorem md_ceil {q m : Int} (q1 : 1 ≤ q) (q2 : q ≤ 1000000000000000) (m1 : 1 ≤ m) (m2 : m ≤ 1000000000000000) : mdE 1 q m 1 = 0 ∧ 0 ≤ mdV 1 q m 1 ∧ mdV 1 q m 1 ≤ 1000000000000000 := by
  have hq : mdQ 1 q m 1 = if 0 < q % m then q / m + 1 else q / m := by
    unfold mdQ absP
    have e2 : (q.natAbs : Int) = q := by omega
    have e3 : negB 1 q = false := by unfold negB; rw [decide_eq_false (by omega), decide_eq_false (by omega)]; rfl
    rw [e2, e3]
    simp [rnd, upB]
  have d0 : 0 ≤ q / m := Int.ediv_nonneg (by omega) (by omega)
  have r0 := Int.emod_nonneg q (show m ≠ 0 by omega)
  have dm := Int.mul_ediv_add_emod q m
  have bd : 0 ≤ mdQ 1 q m 1 ∧ mdQ 1 q m 1 ≤ 1000000000000000 := by
    rw [hq]
    split
    · have r1 := Int.emod_lt_of_pos q (show 0 < m by omega)
      have := Int.mul_le_mul_of_nonneg_right (show 2 ≤ m by omega) d0
      omega
    · have := Int.mul_le_mul_of_nonneg_right m1 d0
      omega
  have hok : okArgs 1 q m := ⟨⟨by omega, by omega⟩, ⟨by omega, by omega⟩, by omega, by omega⟩
  have hE := mdE_ok 1 q m 1 (by decide) (by decide) hok ⟨by omega, by omega⟩
  rw [mdV_ok _ _ _ _ hE]
  exact ⟨hE, bd⟩
set_option maxHeartbeats 8000000 in
set_option maxRecDepth 20000 in
theorem partialMaximal_walk (t : Tr) (a1 a2 : Int) (w : World) (h : t.Ok) (w1 : (Lit.int .i64 a1).wf = true) (w2 : (Lit.int .i64 a2).wf = true) (hL : laidMetH Tryd.prog laid w) :
    Calls Tryd.prog 7 #[.agg #[.int .i64 t.k, .string t.d, .string t.r, .string t.a, .int .i64 t.q, .int .i64 t.m, .int .i64 t.td, .int .i64 t.sd, .int .i64 t.p, .bool t.pa, .int .i64 t.ml, .string t.r0, .string t.r1], .int .i64 a1, .int .i64 a2] w fun e w' => e = .returned (.bool true) ∧ Below w.heap.size w w' := by
  have S := hide (shp_of hL)
  obtain ⟨b1, b2⟩ := wfi w1
  have LO := fun w => hide (lof_any t w)
  have LG := fun w S => hide (largest_any t a1 a2 w S h ⟨b1, b2⟩)
  have K := fun w S => hide (known_any w S)
  have RA := fun w => hide (ral_any t w h)
  have HR := hide (one_alloc w (Obj.cells #[.int .i64 t.k, .string t.d, .string t.r, .string t.a, .int .i64 t.q, .int .i64 t.m, .int .i64 t.td, .int .i64 t.sd, .int .i64 t.p, .bool t.pa, .int .i64 t.ml, .string t.r0, .string t.r1] 24))
  have HB := hide (TB.new t w 24)
  cases ha : alB t
  · have e1 : (lgE t != 0) = true := by simpa using lgE_no ha
    rw [ha] at RA
    clear h w1 w2 hL ha b1 b2
    generalize lgV t a1 a2 = V at *
    generalize lgE t = E at *
    go_enter Tryd.func7, Tryd.ntmps7
    obtain ⟨_, c0, c1, c2, c3, c4, c5, c6, c7, c8, c9, c10, c11, c12⟩ := HB.out
    go_wp2_with fail
    refine ((LO _).out).mono ?_
    rintro e x1 ⟨rfl, hb⟩
    clear c0 c1 c2 c3 c4 c5 c6 c7 c8 c9 c10 c11 c12
    have HB := hide (HB.out.keep hb)
    have HR := hide (HR.out.trans (hb.mono HR.out.size))
    clear hb
    go_wp2_with fail
    refine ((LG _ (S.out.keep HR.out)).out).mono ?_
    rintro e x2 ⟨rfl, hb⟩
    have HB := hide (HB.out.keep hb)
    have HR := hide (HR.out.trans (hb.mono HR.out.size))
    clear hb
    go_wp2_with fail
    refine ((K _ (S.out.keep HR.out)).out).mono ?_
    rintro e x3 ⟨rfl, hb⟩
    have HB := hide (HB.out.keep hb)
    have HR := hide (HR.out.trans (hb.mono HR.out.size))
    clear hb
    obtain ⟨_, c0, c1, c2, c3, c4, c5, c6, c7, c8, c9, c10, c11, c12⟩ := HB.out
    go_wp2_with fail
    refine ((RA _).out).mono ?_
    rintro e x4 ⟨rfl, hb⟩
    clear c0 c1 c2 c3 c4 c5 c6 c7 c8 c9 c10 c11 c12
    have HR := hide (HR.out.trans (hb.mono HR.out.size))
    clear hb
    go_wp2_with fail
    go_ret
    exact ⟨rfl, HR.out⟩
  · have A := al_of ha
    have l1 := A.l1
    have l2 := A.l2
    have q2 := A.g.q2
    obtain ⟨v0, v1⟩ := lgV_bd (t := t) a1 a2
    have X := mx_of ha a1 a2
    have FT := fun n w => hide (fits_any t n a1 a2 w h ha)
    have MD := fun w => hide (md_any 1 t.q t.m 1 w h.m.2)
    have G := hide A.g
    rw [lgE_al ha] at LG
    have XX := hide X
    clear h w1 w2 hL ha A X RA b1 b2
    by_cases hv : lgV t a1 a2 = 0
    · by_cases hk : t.k = 1
      · obtain ⟨m1, m2, m3⟩ := md_ceil G.out.q1 q2 (G.out.m1 hk) G.out.m2
        rw [m1] at MD
        have X3 := fun s => XX.out.first s hv
        rw [hv] at LG
        have k1 : (t.k == 1) = true := by simpa using hk
        clear hv hk XX G v0 v1 m1
        generalize mdV 1 t.q t.m 1 = K0 at *
        have u0 : 0 ≤ K0 + t.ml - 1 := by omega
        have u1 : K0 + t.ml - 1 ≤ 2000000000000000 := by omega
        have fx := X3 ((K0 + t.ml - 1) / t.ml)
        have F1 := fun w => FT ((K0 + t.ml - 1) / t.ml * t.ml) w
        rw [fx] at F1
        clear X3 fx FT
        have d0 : 0 ≤ (K0 + t.ml - 1) / t.ml * t.ml := Int.mul_nonneg (Int.ediv_nonneg u0 (by omega)) (by omega)
        have d1 : (K0 + t.ml - 1) / t.ml * t.ml ≤ K0 + t.ml - 1 := Int.ediv_mul_le _ (by omega)
        have hw : wrap64 ((K0 + t.ml - 1) / t.ml * t.ml) = (K0 + t.ml - 1) / t.ml * t.ml := by unfold wrap64; omega
        have hw2 : IntKind.i64.wrap ((K0 + t.ml - 1) / t.ml * t.ml) = (K0 + t.ml - 1) / t.ml * t.ml := by rw [IntKind.wrap_i64]; omega
        have lz : (t.ml == 0) = false := by simpa using (show ¬ t.ml = 0 by omega)
        clear d0 d1
        go_enter Tryd.func7, Tryd.ntmps7
        obtain ⟨_, c0, c1, c2, c3, c4, c5, c6, c7, c8, c9, c10, c11, c12⟩ := HB.out
        go_wp2_with fail
        refine ((LO _).out).mono ?_
        rintro e x1 ⟨rfl, hb⟩
        clear c0 c1 c2 c3 c4 c5 c6 c7 c8 c9 c10 c11 c12
        have HB := hide (HB.out.keep hb)
        have HR := hide (HR.out.trans (hb.mono HR.out.size))
        clear hb
        go_wp2_with fail
        refine ((LG _ (S.out.keep HR.out)).out).mono ?_
        rintro e x2 ⟨rfl, hb⟩
        have HB := hide (HB.out.keep hb)
        have HR := hide (HR.out.trans (hb.mono HR.out.size))
        clear hb
        obtain ⟨_, c0, c1, c2, c3, c4, c5, c6, c7, c8, c9, c10, c11, c12⟩ := HB.out
        go_wp2_with fail
        refine ((MD _).out).mono ?_
        rintro e x3 ⟨rfl, hb⟩
        clear c0 c1 c2 c3 c4 c5 c6 c7 c8 c9 c10 c11 c12
        have HB := hide (HB.out.keep hb)
        have HR := hide (HR.out.trans (hb.mono HR.out.size))
        clear hb
        obtain ⟨_, c0, c1, c2, c3, c4, c5, c6, c7, c8, c9, c10, c11, c12⟩ := HB.out
        go_wp2_with fail
        go_region
        have hb : Below x3.heap.size x3 x3.drew := (Below.refl _ _).drew
        clear c0 c1 c2 c3 c4 c5 c6 c7 c8 c9 c10 c11 c12
        have HB := hide (HB.out.keep hb)
        have HR := hide (HR.out.trans (hb.mono HR.out.size))
        clear hb
        generalize x3.drew = x4 at *
        go_wp2_with fail
        refine ((K _ (S.out.keep HR.out)).out).mono ?_
        rintro e x5 ⟨rfl, hb⟩
        have HB := hide (HB.out.keep hb)
        have HR := hide (HR.out.trans (hb.mono HR.out.size))
        clear hb
        obtain ⟨_, c0, c1, c2, c3, c4, c5, c6, c7, c8, c9, c10, c11, c12⟩ := HB.out
        go_wp2_with fail
        refine ((F1 _).out).mono ?_
        rintro e x6 ⟨rfl, hb⟩
        clear c0 c1 c2 c3 c4 c5 c6 c7 c8 c9 c10 c11 c12
        have HR := hide (HR.out.trans (hb.mono HR.out.size))
        clear hb
        go_wp2_with fail
        go_ret
        exact ⟨rfl, HR.out⟩
      · have X2 := XX.out.next (fun _ => hk)
        rw [hv] at LG X2
        have k1 : (t.k == 1) = false := by simpa using hk
        have F1 := fun w => FT (0 + t.ml) w
        rw [X2] at F1
        rw [Int.zero_add] at F1
        clear hv hk XX G v0 v1 X2 FT MD
        go_enter Tryd.func7, Tryd.ntmps7
        obtain ⟨_, c0, c1, c2, c3, c4, c5, c6, c7, c8, c9, c10, c11, c12⟩ := HB.out
        go_wp2_with fail
        refine ((LO _).out).mono ?_
        rintro e x1 ⟨rfl, hb⟩
        clear c0 c1 c2 c3 c4 c5 c6 c7 c8 c9 c10 c11 c12
        have HB := hide (HB.out.keep hb)
        have HR := hide (HR.out.trans (hb.mono HR.out.size))
        clear hb
        go_wp2_with fail
        refine ((LG _ (S.out.keep HR.out)).out).mono ?_
        rintro e x2 ⟨rfl, hb⟩
        have HB := hide (HB.out.keep hb)
        have HR := hide (HR.out.trans (hb.mono HR.out.size))
        clear hb
        obtain ⟨_, c0, c1, c2, c3, c4, c5, c6, c7, c8, c9, c10, c11, c12⟩ := HB.out
        go_wp2_with fail
        refine ((K _ (S.out.keep HR.out)).out).mono ?_
        rintro e x3 ⟨rfl, hb⟩
        have HB := hide (HB.out.keep hb)
        have HR := hide (HR.out.trans (hb.mono HR.out.size))
        clear hb
        clear c0 c1 c2 c3 c4 c5 c6 c7 c8 c9 c10 c11 c12
        obtain ⟨_, c0, c1, c2, c3, c4, c5, c6, c7, c8, c9, c10, c11, c12⟩ := HB.out
        go_wp2_with fail
        refine ((F1 _).out).mono ?_
        rintro e x4 ⟨rfl, hb⟩
        clear c0 c1 c2 c3 c4 c5 c6 c7 c8 c9 c10 c11 c12
        have HR := hide (HR.out.trans (hb.mono HR.out.size))
        clear hb
        go_wp2_with fail
        go_ret
        exact ⟨rfl, HR.out⟩
    · have X1 := XX.out.fit hv
      have X2 := XX.out.next (fun h => absurd h hv)
      have F0 := fun w => FT (lgV t a1 a2) w
      have F1 := fun w => FT (lgV t a1 a2 + t.ml) w
      rw [X1] at F0
      rw [X2] at F1
      have vn : (lgV t a1 a2 != 0) = true := by simpa using hv
      have ve : (lgV t a1 a2 == 0) = false := by simpa using hv
      clear hv XX G X1 X2 FT MD
      generalize lgV t a1 a2 = V at *
      go_enter Tryd.func7, Tryd.ntmps7
      obtain ⟨_, c0, c1, c2, c3, c4, c5, c6, c7, c8, c9, c10, c11, c12⟩ := HB.out
      go_wp2_with fail
      refine ((LO _).out).mono ?_
      rintro e x1 ⟨rfl, hb⟩
      clear c0 c1 c2 c3 c4 c5 c6 c7 c8 c9 c10 c11 c12
      have HB := hide (HB.out.keep hb)
      have HR := hide (HR.out.trans (hb.mono HR.out.size))
      clear hb
      go_wp2_with fail
      refine ((LG _ (S.out.keep HR.out)).out).mono ?_
      rintro e x2 ⟨rfl, hb⟩
      have HB := hide (HB.out.keep hb)
      have HR := hide (HR.out.trans (hb.mono HR.out.size))
      clear hb
      obtain ⟨_, c0, c1, c2, c3, c4, c5, c6, c7, c8, c9, c10, c11, c12⟩ := HB.out
      go_wp2_with fail
      refine ((F0 _).out).mono ?_
      rintro e x3 ⟨rfl, hb⟩
      clear c0 c1 c2 c3 c4 c5 c6 c7 c8 c9 c10 c11 c12
      have HB := hide (HB.out.keep hb)
      have HR := hide (HR.out.trans (hb.mono HR.out.size))
      clear hb
      go_wp2_with fail
      refine ((K _ (S.out.keep HR.out)).out).mono ?_
      rintro e x4 ⟨rfl, hb⟩
      have HB := hide (HB.out.keep hb)
      have HR := hide (HR.out.trans (hb.mono HR.out.size))
      clear hb
      obtain ⟨_, c0, c1, c2, c3, c4, c5, c6, c7, c8, c9, c10, c11, c12⟩ := HB.out
      go_wp2_with fail
      refine ((F1 _).out).mono ?_
      rintro e x5 ⟨rfl, hb⟩
      clear c0 c1 c2 c3 c4 c5 c6 c7 c8 c9 c10 c11 c12
      have HR := hide (HR.out.trans (hb.mono HR.out.size))
      clear hb
      go_wp2_with fail
      go_ret
      exact ⟨rfl, HR.out⟩
end Go.Proofs.YtipgpmjhoaenlaaDoor
