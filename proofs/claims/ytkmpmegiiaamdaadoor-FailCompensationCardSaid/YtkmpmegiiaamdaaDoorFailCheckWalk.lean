/-
  The walk of FailCheck.
-/
import Derived.Test.YtkmpmegiiaamdaaDoorG4
import Derived.Test.YtkmpmegiiaamdaaDoorG5
namespace Go.Proofs.YtkmpmegiiaamdaaDoor
open Go.RowKit
set_option linter.unusedVariables false
set_option linter.unusedSimpArgs false
set_option linter.unnecessarySimpa false

theorem wfi {a : Int} (h : (Lit.int .i64 a).wf = true) : -9223372036854775808 ≤ a ∧ a ≤ 9223372036854775807 := by
  simp [Lit.wf] at h; simp [IntKind.min, IntKind.signed, IntKind.bits] at h; omega
set_option maxHeartbeats 2000000 in
theorem own_any (t : Cs) (w : World) : Calls Tryd.prog 7 #[.agg #[.string t.rf, .string t.d, .string t.r, .string t.a, .int .i64 t.q, .int .i64 t.v, .int .i64 t.sd, .int .i64 t.ft]] w fun e w' => e = .returned (.agg #[.string t.rf, .string t.d, .string t.r, .string t.a, .int .i64 t.q, .int .i64 t.v, .int .i64 t.sd, .int .i64 t.ft]) ∧ Below w.heap.size w w' := by
  go_enter Tryd.func7, Tryd.ntmps7
  go_wp2_with fail
  exact bodyPost_ret (v := .agg #[.string t.rf, .string t.d, .string t.r, .string t.a, .int .i64 t.q, .int .i64 t.v, .int .i64 t.sd, .int .i64 t.ft]) (by simp [results, Tryd.results7, go_sem]) rfl ⟨rfl, two_allocs _ _ _⟩
set_option maxHeartbeats 8000000 in
set_option maxRecDepth 20000 in
theorem failCheck_walk (t : Cs) (w : World) (h : t.Ok) (hL : laidMetH Tryd.prog laid w) :
    Calls Tryd.prog 3 #[.agg #[.string t.rf, .string t.d, .string t.r, .string t.a, .int .i64 t.q, .int .i64 t.v, .int .i64 t.sd, .int .i64 t.ft]] w fun e w' => e = .returned (.bool true) ∧ Below w.heap.size w w' := by
  have S := hide (shp_of hL)
  have OW := fun w => hide (own_any t w)
  have CK := fun w S => hide (ccheck_any t w S h)
  have RC := fun w => hide (rcheck_any t w h)
  have K := fun w S => hide (known_any w S)
  have HR := hide (one_alloc w (Obj.cells #[.string t.rf, .string t.d, .string t.r, .string t.a, .int .i64 t.q, .int .i64 t.v, .int .i64 t.sd, .int .i64 t.ft] 23))
  have HB := hide (TB.new t w 23)
  clear h hL
  generalize cE t = E at *
  go_enter Tryd.func3, Tryd.ntmps3
  go_wp2_with fail
  generalize w.alloc (Obj.cells #[.string t.rf, .string t.d, .string t.r, .string t.a, .int .i64 t.q, .int .i64 t.v, .int .i64 t.sd, .int .i64 t.ft] 23) = X at *
  have KS : ∀ y : Sub X, Hid (Shp y.val) := fun y => hide (S.out.keep (HR.out.trans (y.below.mono HR.out.size)))
  have k0 : ∀ z : Sub X, z.val.cell? ⟨w.heap.size, 0, none⟩ = some (.string t.rf) := fun z => (HB.out.keep z.below).c0
  have k1 : ∀ z : Sub X, z.val.cell? ⟨w.heap.size, 1, none⟩ = some (.string t.d) := fun z => (HB.out.keep z.below).c1
  have k2 : ∀ z : Sub X, z.val.cell? ⟨w.heap.size, 2, none⟩ = some (.string t.r) := fun z => (HB.out.keep z.below).c2
  have k3 : ∀ z : Sub X, z.val.cell? ⟨w.heap.size, 3, none⟩ = some (.string t.a) := fun z => (HB.out.keep z.below).c3
  have k4 : ∀ z : Sub X, z.val.cell? ⟨w.heap.size, 4, none⟩ = some (.int .i64 t.q) := fun z => (HB.out.keep z.below).c4
  have k5 : ∀ z : Sub X, z.val.cell? ⟨w.heap.size, 5, none⟩ = some (.int .i64 t.v) := fun z => (HB.out.keep z.below).c5
  have k6 : ∀ z : Sub X, z.val.cell? ⟨w.heap.size, 6, none⟩ = some (.int .i64 t.sd) := fun z => (HB.out.keep z.below).c6
  have k7 : ∀ z : Sub X, z.val.cell? ⟨w.heap.size, 7, none⟩ = some (.int .i64 t.ft) := fun z => (HB.out.keep z.below).c7
  refine wp_region_sub (w0 := X) (by kernel_rfl) (by kernel_rfl) (Below.refl _ _).drew ?_
  repeat (first | go_big_quiet_step ((first | (go_at_call 7; exact sub_of _ (OW _).out) | (go_at_call 8; exact sub_of _ (CK _ (KS _).out).out) | (go_at_call 9; exact sub_of _ (RC _).out) | (go_at_call 10; exact sub_of _ (K _ (KS _).out).out))) | quiet_step ((first | (go_at_call 7; exact sub_of _ (OW _).out) | (go_at_call 8; exact sub_of _ (CK _ (KS _).out).out) | (go_at_call 9; exact sub_of _ (RC _).out) | (go_at_call 10; exact sub_of _ (K _ (KS _).out).out))))
  refine wpQuiet_nil ?_
  rintro _ ⟨y, rfl⟩
  go_wp2_with fail
  go_ret
  exact ⟨rfl, HR.out.trans (y.below.mono HR.out.size)⟩
end Go.Proofs.YtkmpmegiiaamdaaDoor
