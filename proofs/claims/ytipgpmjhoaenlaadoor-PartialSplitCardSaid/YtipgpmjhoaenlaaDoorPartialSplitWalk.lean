/-
  The walk of PartialSplit.
-/
import Derived.Test.YtipgpmjhoaenlaaDoorP11
namespace Go.Proofs.YtipgpmjhoaenlaaDoor
open Go.RowKit
set_option linter.unusedVariables false
set_option linter.unusedSimpArgs false
set_option linter.unnecessarySimpa false

theorem wfi {a : Int} (h : (Lit.int .i64 a).wf = true) : -9223372036854775808 ≤ a ∧ a ≤ 9223372036854775807 := by
  simp [Lit.wf] at h; simp [IntKind.min, IntKind.signed, IntKind.bits] at h; omega
set_option maxHeartbeats 8000000 in
set_option maxRecDepth 20000 in
theorem partialSplit_walk (t : Tr) (a1 : Int) (w : World) (h : t.Ok) (w1 : (Lit.int .i64 a1).wf = true) (hL : laidMetH Tryd.prog laid w) :
    Calls Tryd.prog 4 #[.agg #[.int .i64 t.k, .string t.d, .string t.r, .string t.a, .int .i64 t.q, .int .i64 t.m, .int .i64 t.td, .int .i64 t.sd, .int .i64 t.p, .bool t.pa, .int .i64 t.ml, .string t.r0, .string t.r1], .int .i64 a1] w fun e w' => e = .returned (.bool true) ∧ Below w.heap.size w w' := by
  have S := hide (shp_of hL)
  have LO := fun w => hide (lof_any t w)
  have SP := fun w S => hide (split_any t a1 w S h)
  have RS := fun w => hide (rsplit_any t a1 w h)
  have K := fun w S => hide (known_any w S)
  have SM := fun t w => hide (same_refl t w)
  have HR := hide (one_alloc w (Obj.cells #[.int .i64 t.k, .string t.d, .string t.r, .string t.a, .int .i64 t.q, .int .i64 t.m, .int .i64 t.td, .int .i64 t.sd, .int .i64 t.p, .bool t.pa, .int .i64 t.ml, .string t.r0, .string t.r1] 24))
  have HB := hide (TB.new t w 24)
  clear h w1 hL
  generalize spE t a1 = E at *
  generalize spA t a1 = A at *
  generalize spB t a1 = B at *
  go_enter Tryd.func4, Tryd.ntmps4
  obtain ⟨_, c0, c1, c2, c3, c4, c5, c6, c7, c8, c9, c10, c11, c12⟩ := HB.out
  go_wp2_with fail
  refine ((LO _).out).mono ?_
  rintro e x1 ⟨rfl, hb⟩
  clear c0 c1 c2 c3 c4 c5 c6 c7 c8 c9 c10 c11 c12
  have HB := hide (HB.out.keep hb)
  have HR := hide (HR.out.trans (hb.mono HR.out.size))
  clear hb
  go_wp2_with fail
  refine ((SP _ (S.out.keep HR.out)).out).mono ?_
  rintro e x2 ⟨rfl, hb⟩
  have HB := hide (HB.out.keep hb)
  have HR := hide (HR.out.trans (hb.mono HR.out.size))
  clear hb
  have hb := two_allocs x2 (Obj.cells #[.int .i64 A.k, .string A.d, .string A.r, .string A.a, .int .i64 A.q, .int .i64 A.m, .int .i64 A.td, .int .i64 A.sd, .int .i64 A.p, .bool A.pa, .int .i64 A.ml, .string A.r0, .string A.r1] 25) (Obj.cells #[.int .i64 B.k, .string B.d, .string B.r, .string B.a, .int .i64 B.q, .int .i64 B.m, .int .i64 B.td, .int .i64 B.sd, .int .i64 B.p, .bool B.pa, .int .i64 B.ml, .string B.r0, .string B.r1] 25)
  have H5 := hide ((TB.new A x2 25).keep (one_alloc _ (Obj.cells #[.int .i64 B.k, .string B.d, .string B.r, .string B.a, .int .i64 B.q, .int .i64 B.m, .int .i64 B.td, .int .i64 B.sd, .int .i64 B.p, .bool B.pa, .int .i64 B.ml, .string B.r0, .string B.r1] 25)))
  have H6 := hide (TB.new B (x2.alloc (Obj.cells #[.int .i64 A.k, .string A.d, .string A.r, .string A.a, .int .i64 A.q, .int .i64 A.m, .int .i64 A.td, .int .i64 A.sd, .int .i64 A.p, .bool A.pa, .int .i64 A.ml, .string A.r0, .string A.r1] 25)) 25)
  have s9 : (x2.alloc (Obj.cells #[.int .i64 A.k, .string A.d, .string A.r, .string A.a, .int .i64 A.q, .int .i64 A.m, .int .i64 A.td, .int .i64 A.sd, .int .i64 A.p, .bool A.pa, .int .i64 A.ml, .string A.r0, .string A.r1] 25)).heap.size = x2.heap.size + 1 := by simp
  rw [s9] at H6
  clear s9
  have HB := hide (HB.out.keep hb)
  have HR := hide (HR.out.trans (hb.mono HR.out.size))
  clear hb
  obtain ⟨_, c0, c1, c2, c3, c4, c5, c6, c7, c8, c9, c10, c11, c12⟩ := HB.out
  go_wp2_with fail
  clear c0 c1 c2 c3 c4 c5 c6 c7 c8 c9 c10 c11 c12
  generalize ((x2.alloc (Obj.cells #[.int .i64 A.k, .string A.d, .string A.r, .string A.a, .int .i64 A.q, .int .i64 A.m, .int .i64 A.td, .int .i64 A.sd, .int .i64 A.p, .bool A.pa, .int .i64 A.ml, .string A.r0, .string A.r1] 25)).alloc (Obj.cells #[.int .i64 B.k, .string B.d, .string B.r, .string B.a, .int .i64 B.q, .int .i64 B.m, .int .i64 B.td, .int .i64 B.sd, .int .i64 B.p, .bool B.pa, .int .i64 B.ml, .string B.r0, .string B.r1] 25)) = X at *
  generalize x2.heap.size = p at *
  refine ((RS _).out).mono ?_
  rintro e x3 ⟨rfl, hb⟩
  have HB := hide (HB.out.keep hb)
  have H5 := hide (H5.out.keep hb)
  have H6 := hide (H6.out.keep hb)
  have HR := hide (HR.out.trans (hb.mono HR.out.size))
  clear hb
  have hb := two_allocs x3 (Obj.cells #[.int .i64 A.k, .string A.d, .string A.r, .string A.a, .int .i64 A.q, .int .i64 A.m, .int .i64 A.td, .int .i64 A.sd, .int .i64 A.p, .bool A.pa, .int .i64 A.ml, .string A.r0, .string A.r1] 24) (Obj.cells #[.int .i64 B.k, .string B.d, .string B.r, .string B.a, .int .i64 B.q, .int .i64 B.m, .int .i64 B.td, .int .i64 B.sd, .int .i64 B.p, .bool B.pa, .int .i64 B.ml, .string B.r0, .string B.r1] 24)
  have H8 := hide ((TB.new A x3 24).keep (one_alloc _ (Obj.cells #[.int .i64 B.k, .string B.d, .string B.r, .string B.a, .int .i64 B.q, .int .i64 B.m, .int .i64 B.td, .int .i64 B.sd, .int .i64 B.p, .bool B.pa, .int .i64 B.ml, .string B.r0, .string B.r1] 24)))
  have H9 := hide (TB.new B (x3.alloc (Obj.cells #[.int .i64 A.k, .string A.d, .string A.r, .string A.a, .int .i64 A.q, .int .i64 A.m, .int .i64 A.td, .int .i64 A.sd, .int .i64 A.p, .bool A.pa, .int .i64 A.ml, .string A.r0, .string A.r1] 24)) 24)
  have s9 : (x3.alloc (Obj.cells #[.int .i64 A.k, .string A.d, .string A.r, .string A.a, .int .i64 A.q, .int .i64 A.m, .int .i64 A.td, .int .i64 A.sd, .int .i64 A.p, .bool A.pa, .int .i64 A.ml, .string A.r0, .string A.r1] 24)).heap.size = x3.heap.size + 1 := by simp
  rw [s9] at H9
  clear s9
  have H5 := hide (H5.out.keep hb)
  have H6 := hide (H6.out.keep hb)
  have HR := hide (HR.out.trans (hb.mono HR.out.size))
  clear hb
  go_wp2_with fail
  generalize ((x3.alloc (Obj.cells #[.int .i64 A.k, .string A.d, .string A.r, .string A.a, .int .i64 A.q, .int .i64 A.m, .int .i64 A.td, .int .i64 A.sd, .int .i64 A.p, .bool A.pa, .int .i64 A.ml, .string A.r0, .string A.r1] 24)).alloc (Obj.cells #[.int .i64 B.k, .string B.d, .string B.r, .string B.a, .int .i64 B.q, .int .i64 B.m, .int .i64 B.td, .int .i64 B.sd, .int .i64 B.p, .bool B.pa, .int .i64 B.ml, .string B.r0, .string B.r1] 24)) = Y at *
  generalize x3.heap.size = q at *
  refine ((K _ (S.out.keep HR.out)).out).mono ?_
  rintro e x4 ⟨rfl, hb⟩
  have H5 := hide (H5.out.keep hb)
  have H6 := hide (H6.out.keep hb)
  have H8 := hide (H8.out.keep hb)
  have H9 := hide (H9.out.keep hb)
  have HR := hide (HR.out.trans (hb.mono HR.out.size))
  clear hb
  obtain ⟨_, c0, c1, c2, c3, c4, c5, c6, c7, c8, c9, c10, c11, c12⟩ := H5.out
  obtain ⟨_, d0, d1, d2, d3, d4, d5, d6, d7, d8, d9, d10, d11, d12⟩ := H8.out
  go_wp2_with fail
  refine ((SM A _).out).mono ?_
  rintro e x5 ⟨rfl, hb⟩
  clear c0 c1 c2 c3 c4 c5 c6 c7 c8 c9 c10 c11 c12 d0 d1 d2 d3 d4 d5 d6 d7 d8 d9 d10 d11 d12
  have H6 := hide (H6.out.keep hb)
  have H9 := hide (H9.out.keep hb)
  have HR := hide (HR.out.trans (hb.mono HR.out.size))
  clear hb
  obtain ⟨_, c0, c1, c2, c3, c4, c5, c6, c7, c8, c9, c10, c11, c12⟩ := H6.out
  obtain ⟨_, d0, d1, d2, d3, d4, d5, d6, d7, d8, d9, d10, d11, d12⟩ := H9.out
  go_wp2_with fail
  refine ((SM B _).out).mono ?_
  rintro e x6 ⟨rfl, hb⟩
  clear c0 c1 c2 c3 c4 c5 c6 c7 c8 c9 c10 c11 c12 d0 d1 d2 d3 d4 d5 d6 d7 d8 d9 d10 d11 d12
  have HR := hide (HR.out.trans (hb.mono HR.out.size))
  clear hb
  go_wp2_with fail
  go_ret
  exact ⟨rfl, HR.out⟩
end Go.Proofs.YtipgpmjhoaenlaaDoor
