/-
  The walk of PartialLargest.
-/
import Derived.Test.YtipgpmjhoaenlaaDoorP11
import Derived.Test.YtipgpmjhoaenlaaDoorP13
namespace Go.Proofs.YtipgpmjhoaenlaaDoor
open Go.RowKit
set_option linter.unusedVariables false
set_option linter.unusedSimpArgs false
set_option linter.unnecessarySimpa false

theorem wfi {a : Int} (h : (Lit.int .i64 a).wf = true) : -9223372036854775808 ≤ a ∧ a ≤ 9223372036854775807 := by
  simp [Lit.wf] at h; simp [IntKind.min, IntKind.signed, IntKind.bits] at h; omega
set_option maxHeartbeats 8000000 in
set_option maxRecDepth 20000 in
theorem partialLargest_walk (t : Tr) (a1 a2 : Int) (w : World) (h : t.Ok) (w1 : (Lit.int .i64 a1).wf = true) (w2 : (Lit.int .i64 a2).wf = true) (hL : laidMetH Tryd.prog laid w) :
    Calls Tryd.prog 6 #[.agg #[.int .i64 t.k, .string t.d, .string t.r, .string t.a, .int .i64 t.q, .int .i64 t.m, .int .i64 t.td, .int .i64 t.sd, .int .i64 t.p, .bool t.pa, .int .i64 t.ml, .string t.r0, .string t.r1], .int .i64 a1, .int .i64 a2] w fun e w' => e = .returned (.bool true) ∧ Below w.heap.size w w' := by
  have S := hide (shp_of hL)
  have LO := fun w => hide (lof_any t w)
  have MN := fun w => hide (many_any t w h)
  have LG := fun w S => hide (largest_any t a1 a2 w S h (wfi w1))
  have RG := fun w => hide (rlargest_any t a1 a2 w h)
  have K := fun w S => hide (known_any w S)
  have HR := hide (one_alloc w (Obj.cells #[.int .i64 t.k, .string t.d, .string t.r, .string t.a, .int .i64 t.q, .int .i64 t.m, .int .i64 t.td, .int .i64 t.sd, .int .i64 t.p, .bool t.pa, .int .i64 t.ml, .string t.r0, .string t.r1] 24))
  have HB := hide (TB.new t w 24)
  clear h w1 w2 hL
  generalize lgV t a1 a2 = V at *
  generalize lgE t = E at *
  generalize mny t = M at *
  by_cases hm : 500 < M
  · go_enter Tryd.func6, Tryd.ntmps6
    obtain ⟨_, c0, c1, c2, c3, c4, c5, c6, c7, c8, c9, c10, c11, c12⟩ := HB.out
    go_wp2_with fail
    refine ((MN _).out).mono ?_
    rintro e x1 ⟨rfl, hb⟩
    clear c0 c1 c2 c3 c4 c5 c6 c7 c8 c9 c10 c11 c12
    have HB := hide (HB.out.keep hb)
    have HR := hide (HR.out.trans (hb.mono HR.out.size))
    clear hb
    go_wp2_with fail
    refine ((K _ (S.out.keep HR.out)).out).mono ?_
    rintro e x2 ⟨rfl, hb⟩
    have HR := hide (HR.out.trans (hb.mono HR.out.size))
    clear hb
    go_wp2_with fail
    go_ret
    exact ⟨rfl, HR.out⟩
  · have hm' : M ≤ 500 := by omega
    clear hm
    go_enter Tryd.func6, Tryd.ntmps6
    obtain ⟨_, c0, c1, c2, c3, c4, c5, c6, c7, c8, c9, c10, c11, c12⟩ := HB.out
    go_wp2_with fail
    refine ((MN _).out).mono ?_
    rintro e x1 ⟨rfl, hb⟩
    clear c0 c1 c2 c3 c4 c5 c6 c7 c8 c9 c10 c11 c12
    have HB := hide (HB.out.keep hb)
    have HR := hide (HR.out.trans (hb.mono HR.out.size))
    clear hb
    obtain ⟨_, c0, c1, c2, c3, c4, c5, c6, c7, c8, c9, c10, c11, c12⟩ := HB.out
    go_wp2_with fail
    refine ((LO _).out).mono ?_
    rintro e x2 ⟨rfl, hb⟩
    clear c0 c1 c2 c3 c4 c5 c6 c7 c8 c9 c10 c11 c12
    have HB := hide (HB.out.keep hb)
    have HR := hide (HR.out.trans (hb.mono HR.out.size))
    clear hb
    go_wp2_with fail
    refine ((LG _ (S.out.keep HR.out)).out).mono ?_
    rintro e x3 ⟨rfl, hb⟩
    have HB := hide (HB.out.keep hb)
    have HR := hide (HR.out.trans (hb.mono HR.out.size))
    clear hb
    obtain ⟨_, c0, c1, c2, c3, c4, c5, c6, c7, c8, c9, c10, c11, c12⟩ := HB.out
    go_wp2_with fail
    refine ((RG _).out).mono ?_
    rintro e x4 ⟨rfl, hb⟩
    clear c0 c1 c2 c3 c4 c5 c6 c7 c8 c9 c10 c11 c12
    have HR := hide (HR.out.trans (hb.mono HR.out.size))
    clear hb
    go_wp2_with fail
    refine ((K _ (S.out.keep HR.out)).out).mono ?_
    rintro e x5 ⟨rfl, hb⟩
    have HR := hide (HR.out.trans (hb.mono HR.out.size))
    clear hb
    go_wp2_with fail
    go_ret
    exact ⟨rfl, HR.out⟩
end Go.Proofs.YtipgpmjhoaenlaaDoor
