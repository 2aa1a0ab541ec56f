/-
  The walk of PartialLargestMonotone.
-/
import Derived.Test.YtipgpmjhoaenlaaDoorP11
import Derived.Test.YtipgpmjhoaenlaaDoorP12
namespace Go.Proofs.YtipgpmjhoaenlaaDoor
open Go.RowKit
set_option linter.unusedVariables false
set_option linter.unusedSimpArgs false
set_option linter.unnecessarySimpa false

theorem wfi {a : Int} (h : (Lit.int .i64 a).wf = true) : -9223372036854775808 ≤ a ∧ a ≤ 9223372036854775807 := by
  simp [Lit.wf] at h; simp [IntKind.min, IntKind.signed, IntKind.bits] at h; omega
theorem wfu {a : Int} (h : (Lit.int .u16 a).wf = true) : 0 ≤ a ∧ a ≤ 65535 := by
  simp [Lit.wf] at h; simp [IntKind.min, IntKind.max, IntKind.signed, IntKind.bits] at h; omega
set_option maxHeartbeats 8000000 in
set_option maxRecDepth 20000 in
theorem partialLargestMonotone_walk (t : Tr) (a1 a2 a3 a4 : Int) (w : World) (h : t.Ok) (w1 : (Lit.int .i64 a1).wf = true) (w2 : (Lit.int .i64 a2).wf = true) (w3 : (Lit.int .u16 a3).wf = true) (w4 : (Lit.int .u16 a4).wf = true) (hL : laidMetH Tryd.prog laid w) :
    Calls Tryd.prog 8 #[.agg #[.int .i64 t.k, .string t.d, .string t.r, .string t.a, .int .i64 t.q, .int .i64 t.m, .int .i64 t.td, .int .i64 t.sd, .int .i64 t.p, .bool t.pa, .int .i64 t.ml, .string t.r0, .string t.r1], .int .i64 a1, .int .i64 a2, .int .u16 a3, .int .u16 a4] w fun e w' => e = .returned (.bool true) ∧ Below w.heap.size w w' := by
  have S := hide (shp_of hL)
  obtain ⟨b1, b2⟩ := wfi w1
  obtain ⟨b3, b4⟩ := wfi w2
  obtain ⟨b5, b6⟩ := wfu w3
  obtain ⟨b7, b8⟩ := wfu w4
  have LO := fun w => hide (lof_any t w)
  have LG := fun x y w S hx => hide (largest_any t x y w S h hx)
  have K := fun w S => hide (known_any w S)
  have MV := hide (lg_mono (t := t) (h1 := a1) (h2 := a1 + a3) (r1 := a2) (r2 := a2 + a4) (by omega) (by omega))
  have HR := hide (one_alloc w (Obj.cells #[.int .i64 t.k, .string t.d, .string t.r, .string t.a, .int .i64 t.q, .int .i64 t.m, .int .i64 t.td, .int .i64 t.sd, .int .i64 t.p, .bool t.pa, .int .i64 t.ml, .string t.r0, .string t.r1] 24))
  have HB := hide (TB.new t w 24)
  clear h w1 w2 w3 w4 hL
  by_cases h1 : 1000000000000000 < a1
  · go_enter Tryd.func8, Tryd.ntmps8
    obtain ⟨_, c0, c1, c2, c3, c4, c5, c6, c7, c8, c9, c10, c11, c12⟩ := HB.out
    go_wp2_with fail
    refine ((LO _).out).mono ?_
    rintro e x1 ⟨rfl, hb⟩
    clear c0 c1 c2 c3 c4 c5 c6 c7 c8 c9 c10 c11 c12
    have HB := hide (HB.out.keep hb)
    have HR := hide (HR.out.trans (hb.mono HR.out.size))
    clear hb
    have hb := one_alloc x1 (Obj.cells #[.int .i64 t.k, .string t.d, .string t.r, .string t.a, .int .i64 t.q, .int .i64 t.m, .int .i64 t.td, .int .i64 t.sd, .int .i64 t.p, .bool t.pa, .int .i64 t.ml, .string t.r0, .string t.r1] 25)
    have HR := hide (HR.out.trans (hb.mono HR.out.size))
    clear hb
    go_wp2_with fail
    refine ((K _ (S.out.keep HR.out)).out).mono ?_
    rintro e x2 ⟨rfl, hb⟩
    have HR := hide (HR.out.trans (hb.mono HR.out.size))
    clear hb
    go_wp2_with fail
    go_ret
    exact ⟨rfl, HR.out⟩
  · by_cases h2 : 1000000000000000 < a2
    · have h1' : a1 ≤ 1000000000000000 := by omega
      clear h1
      go_enter Tryd.func8, Tryd.ntmps8
      obtain ⟨_, c0, c1, c2, c3, c4, c5, c6, c7, c8, c9, c10, c11, c12⟩ := HB.out
      go_wp2_with fail
      refine ((LO _).out).mono ?_
      rintro e x1 ⟨rfl, hb⟩
      clear c0 c1 c2 c3 c4 c5 c6 c7 c8 c9 c10 c11 c12
      have HB := hide (HB.out.keep hb)
      have HR := hide (HR.out.trans (hb.mono HR.out.size))
      clear hb
      have hb := one_alloc x1 (Obj.cells #[.int .i64 t.k, .string t.d, .string t.r, .string t.a, .int .i64 t.q, .int .i64 t.m, .int .i64 t.td, .int .i64 t.sd, .int .i64 t.p, .bool t.pa, .int .i64 t.ml, .string t.r0, .string t.r1] 25)
      have HR := hide (HR.out.trans (hb.mono HR.out.size))
      clear hb
      go_wp2_with fail
      refine ((K _ (S.out.keep HR.out)).out).mono ?_
      rintro e x2 ⟨rfl, hb⟩
      have HR := hide (HR.out.trans (hb.mono HR.out.size))
      clear hb
      go_wp2_with fail
      go_ret
      exact ⟨rfl, HR.out⟩
    · have h1' : a1 ≤ 1000000000000000 := by omega
      have h2' : a2 ≤ 1000000000000000 := by omega
      have L1 := fun w S => LG a1 a2 w S (by omega)
      have L2 := fun w S => LG (a1 + a3) (a2 + a4) w S (by omega)
      have hv := MV.out
      clear h1 h2 LG MV
      generalize lgV t a1 a2 = V1 at *
      generalize lgV t (a1 + a3) (a2 + a4) = V2 at *
      generalize lgE t = E at *
      go_enter Tryd.func8, Tryd.ntmps8
      obtain ⟨_, c0, c1, c2, c3, c4, c5, c6, c7, c8, c9, c10, c11, c12⟩ := HB.out
      go_wp2_with fail
      refine ((LO _).out).mono ?_
      rintro e x1 ⟨rfl, hb⟩
      clear c0 c1 c2 c3 c4 c5 c6 c7 c8 c9 c10 c11 c12
      have HB := hide (HB.out.keep hb)
      have HR := hide (HR.out.trans (hb.mono HR.out.size))
      clear hb
      have hb := one_alloc x1 (Obj.cells #[.int .i64 t.k, .string t.d, .string t.r, .string t.a, .int .i64 t.q, .int .i64 t.m, .int .i64 t.td, .int .i64 t.sd, .int .i64 t.p, .bool t.pa, .int .i64 t.ml, .string t.r0, .string t.r1] 25)
      have H5 := hide (TB.new t x1 25)
      have HR := hide (HR.out.trans (hb.mono HR.out.size))
      clear hb
      go_wp2_with fail
      refine ((L1 _ (S.out.keep HR.out)).out).mono ?_
      rintro e x2 ⟨rfl, hb⟩
      have H5 := hide (H5.out.keep hb)
      have HR := hide (HR.out.trans (hb.mono HR.out.size))
      clear hb
      generalize x1.heap.size = p at *
      obtain ⟨_, c0, c1, c2, c3, c4, c5, c6, c7, c8, c9, c10, c11, c12⟩ := H5.out
      go_wp2_with fail
      refine ((L2 _ (S.out.keep HR.out)).out).mono ?_
      rintro e x3 ⟨rfl, hb⟩
      clear c0 c1 c2 c3 c4 c5 c6 c7 c8 c9 c10 c11 c12
      have H5 := hide (H5.out.keep hb)
      have HR := hide (HR.out.trans (hb.mono HR.out.size))
      clear hb
      go_wp2_with fail
      refine ((K _ (S.out.keep HR.out)).out).mono ?_
      rintro e x4 ⟨rfl, hb⟩
      have HR := hide (HR.out.trans (hb.mono HR.out.size))
      clear hb
      go_wp2_with fail
      go_ret
      exact ⟨rfl, HR.out⟩
end Go.Proofs.YtipgpmjhoaenlaaDoor
