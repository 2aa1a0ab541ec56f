/-
  The walk of FractionCheck.
-/
import Derived.Test.YtmdgjgeblplhpaaDoorFrC
namespace Go.Proofs.YtmdgjgeblplhpaaDoor
open Go.RowKit
set_option linter.unusedVariables false

set_option maxHeartbeats 4000000 in
set_option maxRecDepth 20000 in
theorem fractionCheck_walk (a0_0 a0_1 : Int) (w : World) (w0_0 : (Lit.int .i64 a0_0).wf = true) (w0_1 : (Lit.int .i64 a0_1).wf = true) (hL : laidMetH Tryd.prog laid w) :
    Calls Tryd.prog 4 #[.agg #[.int .i64 a0_0, .int .i64 a0_1]] w fun e w' => e = .returned (.bool true) ∧ Below w.heap.size w w' := by
  have HT := hide (tabs_of hL)
  have i0 := wf64 w0_0
  have i1 := wf64 w0_1
  have CK := fun w => hide (check_any a0_0 a0_1 w i0.1 i0.2 i1.1 i1.2)
  have RC := fun w => hide (rcheck_any a0_0 a0_1 w i0.1 i0.2 i1.1 i1.2)
  have K := fun w T => hide (known_any w T)
  clear hL w0_0 w0_1 i0 i1
  generalize ckE a0_0 a0_1 = E at *
  have HBW := hide (show Below w.heap.size w (w.alloc (Obj.cells #[Value.int IntKind.i64 a0_0, Value.int IntKind.i64 a0_1] 27)) from (Below.refl _ _).alloc (Nat.le_refl _) _)
  have f0 : (w.alloc (Obj.cells #[Value.int IntKind.i64 a0_0, Value.int IntKind.i64 a0_1] 27)).cell? ⟨w.heap.size, 0, none⟩ = some (Value.int .i64 a0_0) := by simp [go_sem]
  have f1 : (w.alloc (Obj.cells #[Value.int IntKind.i64 a0_0, Value.int IntKind.i64 a0_1] 27)).cell? ⟨w.heap.size, 1, none⟩ = some (Value.int .i64 a0_1) := by simp [go_sem]
  have zW : w.heap.size + 1 ≤ (w.alloc (Obj.cells #[Value.int IntKind.i64 a0_0, Value.int IntKind.i64 a0_1] 27)).heap.size := by simp
  go_enter Tryd.func4, Tryd.ntmps4
  go_wp2_with fail
  generalize w.alloc (Obj.cells #[Value.int IntKind.i64 a0_0, Value.int IntKind.i64 a0_1] 27) = W at *
  have k0 : ∀ y : Sub W, y.val.cell? ⟨w.heap.size, 0, none⟩ = some (Value.int .i64 a0_0) := fun y => (y.below.cell (p := ⟨w.heap.size, 0, none⟩) (by simp; omega)).trans f0
  have k1 : ∀ y : Sub W, y.val.cell? ⟨w.heap.size, 1, none⟩ = some (Value.int .i64 a0_1) := fun y => (y.below.cell (p := ⟨w.heap.size, 1, none⟩) (by simp; omega)).trans f1
  have KT : ∀ y : Sub W, Hid (Tabs y.val) := fun y => hide (HT.out.keep (HBW.out.trans (y.below.mono HBW.out.size)))
  refine wp_region_sub (w0 := W) (by kernel_rfl) (by kernel_rfl) (Below.refl _ _).drew ?_
  repeat (first | go_big_quiet_step ((first | (go_at_call 17; exact sub_of _ (from_any _ _ _)) | (go_at_call 15; exact sub_of _ (CK _).out) | (go_at_call 18; exact sub_of _ (RC _).out) | (go_at_call 16; exact sub_of _ (K _ (KT _).out).out))) | quiet_step ((first | (go_at_call 17; exact sub_of _ (from_any _ _ _)) | (go_at_call 15; exact sub_of _ (CK _).out) | (go_at_call 18; exact sub_of _ (RC _).out) | (go_at_call 16; exact sub_of _ (K _ (KT _).out).out))))
  refine wpQuiet_nil ?_
  rintro _ ⟨y, rfl⟩
  go_wp2_with fail
  go_ret
  exact ⟨rfl, HBW.out.trans (y.below.mono HBW.out.size)⟩
end Go.Proofs.YtmdgjgeblplhpaaDoor
