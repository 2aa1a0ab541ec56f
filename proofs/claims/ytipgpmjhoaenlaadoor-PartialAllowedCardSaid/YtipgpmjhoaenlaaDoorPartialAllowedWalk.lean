/-
  The walk of PartialAllowed.
-/
import Derived.Test.YtipgpmjhoaenlaaDoorP11
namespace Go.Proofs.YtipgpmjhoaenlaaDoor
open Go.RowKit
set_option linter.unusedVariables false
set_option linter.unusedSimpArgs false
set_option linter.unnecessarySimpa false

theorem wfi {a : Int} (h : (Lit.int .i64 a).wf = true) : -9223372036854775808 ≤ a ∧ a ≤ 9223372036854775807 := by
  simp [Lit.wf] at h; simp [IntKind.min, IntKind.signed, IntKind.bits] at h; omega
set_option maxHeartbeats 8000000 in
set_option maxRecDepth 20000 in
theorem partialAllowed_walk (t : Tr) (a1 : Int) (w : World) (h : t.Ok) (w1 : (Lit.int .i64 a1).wf = true) (hL : laidMetH Tryd.prog laid w) :
    Calls Tryd.prog 3 #[.agg #[.int .i64 t.k, .string t.d, .string t.r, .string t.a, .int .i64 t.q, .int .i64 t.m, .int .i64 t.td, .int .i64 t.sd, .int .i64 t.p, .bool t.pa, .int .i64 t.ml, .string t.r0, .string t.r1], .int .i64 a1] w fun e w' => e = .returned (.bool true) ∧ Below w.heap.size w w' := by
  have S := hide (shp_of hL)
  have LO := fun w => hide (lof_any t w)
  have CA := fun w S => hide (cash_any t a1 w S h)
  have RC := fun w => hide (rcash_any t a1 w h)
  have K := fun w S => hide (known_any w S)
  have AL := fun w S => hide (al_any t w S h)
  have RA := fun w => hide (ral_any t w h)
  have HR := hide (one_alloc w (Obj.cells #[.int .i64 t.k, .string t.d, .string t.r, .string t.a, .int .i64 t.q, .int .i64 t.m, .int .i64 t.td, .int .i64 t.sd, .int .i64 t.p, .bool t.pa, .int .i64 t.ml, .string t.r0, .string t.r1] 24))
  have HB := hide (TB.new t w 24)
  clear h w1 hL
  generalize alB t = B at *
  generalize cV t a1 = V at *
  generalize cE t a1 = E at *
  go_enter Tryd.func3, Tryd.ntmps3
  obtain ⟨_, c0, c1, c2, c3, c4, c5, c6, c7, c8, c9, c10, c11, c12⟩ := HB.out
  go_wp2_with fail
  refine ((LO _).out).mono ?_
  rintro e x1 ⟨rfl, hb⟩
  clear c0 c1 c2 c3 c4 c5 c6 c7 c8 c9 c10 c11 c12
  have HB := hide (HB.out.keep hb)
  have HR := hide (HR.out.trans (hb.mono HR.out.size))
  clear hb
  have hb := one_alloc x1 (Obj.cells #[.int .i64 t.k, .string t.d, .string t.r, .string t.a, .int .i64 t.q, .int .i64 t.m, .int .i64 t.td, .int .i64 t.sd, .int .i64 t.p, .bool t.pa, .int .i64 t.ml, .string t.r0, .string t.r1] 25)
  have H5 := hide (TB.new t x1 25)
  have HB := hide (HB.out.keep hb)
  have HR := hide (HR.out.trans (hb.mono HR.out.size))
  clear hb
  go_wp2_with fail
  refine ((CA _ (S.out.keep HR.out)).out).mono ?_
  rintro e x2 ⟨rfl, hb⟩
  have HB := hide (HB.out.keep hb)
  have H5 := hide (H5.out.keep hb)
  have HR := hide (HR.out.trans (hb.mono HR.out.size))
  clear hb
  generalize x1.heap.size = p at *
  obtain ⟨_, c0, c1, c2, c3, c4, c5, c6, c7, c8, c9, c10, c11, c12⟩ := HB.out
  go_wp2_with fail
  refine ((RC _).out).mono ?_
  rintro e x3 ⟨rfl, hb⟩
  clear c0 c1 c2 c3 c4 c5 c6 c7 c8 c9 c10 c11 c12
  have HB := hide (HB.out.keep hb)
  have H5 := hide (H5.out.keep hb)
  have HR := hide (HR.out.trans (hb.mono HR.out.size))
  clear hb
  go_wp2_with fail
  have KS : ∀ y : Sub x3, Hid (Shp y.val) := fun y => hide (S.out.keep (HR.out.trans (y.below.mono HR.out.size)))
  have k0 : ∀ z : Sub x3, z.val.cell? ⟨w.heap.size, 0, none⟩ = some (.int .i64 t.k) := fun z => (HB.out.keep z.below).c0
  have k1 : ∀ z : Sub x3, z.val.cell? ⟨w.heap.size, 1, none⟩ = some (.string t.d) := fun z => (HB.out.keep z.below).c1
  have k2 : ∀ z : Sub x3, z.val.cell? ⟨w.heap.size, 2, none⟩ = some (.string t.r) := fun z => (HB.out.keep z.below).c2
  have k3 : ∀ z : Sub x3, z.val.cell? ⟨w.heap.size, 3, none⟩ = some (.string t.a) := fun z => (HB.out.keep z.below).c3
  have k4 : ∀ z : Sub x3, z.val.cell? ⟨w.heap.size, 4, none⟩ = some (.int .i64 t.q) := fun z => (HB.out.keep z.below).c4
  have k5 : ∀ z : Sub x3, z.val.cell? ⟨w.heap.size, 5, none⟩ = some (.int .i64 t.m) := fun z => (HB.out.keep z.below).c5
  have k6 : ∀ z : Sub x3, z.val.cell? ⟨w.heap.size, 6, none⟩ = some (.int .i64 t.td) := fun z => (HB.out.keep z.below).c6
  have k7 : ∀ z : Sub x3, z.val.cell? ⟨w.heap.size, 7, none⟩ = some (.int .i64 t.sd) := fun z => (HB.out.keep z.below).c7
  have k8 : ∀ z : Sub x3, z.val.cell? ⟨w.heap.size, 8, none⟩ = some (.int .i64 t.p) := fun z => (HB.out.keep z.below).c8
  have k9 : ∀ z : Sub x3, z.val.cell? ⟨w.heap.size, 9, none⟩ = some (.bool t.pa) := fun z => (HB.out.keep z.below).c9
  have k10 : ∀ z : Sub x3, z.val.cell? ⟨w.heap.size, 10, none⟩ = some (.int .i64 t.ml) := fun z => (HB.out.keep z.below).c10
  have k11 : ∀ z : Sub x3, z.val.cell? ⟨w.heap.size, 11, none⟩ = some (.string t.r0) := fun z => (HB.out.keep z.below).c11
  have k12 : ∀ z : Sub x3, z.val.cell? ⟨w.heap.size, 12, none⟩ = some (.string t.r1) := fun z => (HB.out.keep z.below).c12
  have m0 : ∀ z : Sub x3, z.val.cell? ⟨p, 0, none⟩ = some (.int .i64 t.k) := fun z => (H5.out.keep z.below).c0
  have m1 : ∀ z : Sub x3, z.val.cell? ⟨p, 1, none⟩ = some (.string t.d) := fun z => (H5.out.keep z.below).c1
  have m2 : ∀ z : Sub x3, z.val.cell? ⟨p, 2, none⟩ = some (.string t.r) := fun z => (H5.out.keep z.below).c2
  have m3 : ∀ z : Sub x3, z.val.cell? ⟨p, 3, none⟩ = some (.string t.a) := fun z => (H5.out.keep z.below).c3
  have m4 : ∀ z : Sub x3, z.val.cell? ⟨p, 4, none⟩ = some (.int .i64 t.q) := fun z => (H5.out.keep z.below).c4
  have m5 : ∀ z : Sub x3, z.val.cell? ⟨p, 5, none⟩ = some (.int .i64 t.m) := fun z => (H5.out.keep z.below).c5
  have m6 : ∀ z : Sub x3, z.val.cell? ⟨p, 6, none⟩ = some (.int .i64 t.td) := fun z => (H5.out.keep z.below).c6
  have m7 : ∀ z : Sub x3, z.val.cell? ⟨p, 7, none⟩ = some (.int .i64 t.sd) := fun z => (H5.out.keep z.below).c7
  have m8 : ∀ z : Sub x3, z.val.cell? ⟨p, 8, none⟩ = some (.int .i64 t.p) := fun z => (H5.out.keep z.below).c8
  have m9 : ∀ z : Sub x3, z.val.cell? ⟨p, 9, none⟩ = some (.bool t.pa) := fun z => (H5.out.keep z.below).c9
  have m10 : ∀ z : Sub x3, z.val.cell? ⟨p, 10, none⟩ = some (.int .i64 t.ml) := fun z => (H5.out.keep z.below).c10
  have m11 : ∀ z : Sub x3, z.val.cell? ⟨p, 11, none⟩ = some (.string t.r0) := fun z => (H5.out.keep z.below).c11
  have m12 : ∀ z : Sub x3, z.val.cell? ⟨p, 12, none⟩ = some (.string t.r1) := fun z => (H5.out.keep z.below).c12
  refine wp_region_sub (w0 := x3) (by kernel_rfl) (by kernel_rfl) (Below.refl _ _).drew ?_
  repeat (first | go_big_quiet_step ((first | (go_at_call 12; exact sub_of _ (K _ (KS _).out).out) | (go_at_call 13; exact sub_of _ (AL _ (KS _).out).out) | (go_at_call 14; exact sub_of _ (RA _).out))) | quiet_step ((first | (go_at_call 12; exact sub_of _ (K _ (KS _).out).out) | (go_at_call 13; exact sub_of _ (AL _ (KS _).out).out) | (go_at_call 14; exact sub_of _ (RA _).out))))
  refine wpQuiet_nil ?_
  rintro _ ⟨y, rfl⟩
  go_wp2_with fail
  go_ret
  exact ⟨rfl, HR.out.trans (y.below.mono HR.out.size)⟩
end Go.Proofs.YtipgpmjhoaenlaaDoor
