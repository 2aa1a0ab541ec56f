/-
  The walk of FractionOf.
-/
import Derived.Test.YtmdgjgeblplhpaaDoorFrC
import Derived.Test.YtmdgjgeblplhpaaDoorFr19
namespace Go.Proofs.YtmdgjgeblplhpaaDoor
open Go.RowKit
set_option linter.unusedVariables false

set_option maxHeartbeats 4000000 in
set_option maxRecDepth 20000 in
theorem fractionOf_walk (a0_0 a0_1 : Int) (a1 : Int) (a2 : Int) (w : World) (w0_0 : (Lit.int .i64 a0_0).wf = true) (w0_1 : (Lit.int .i64 a0_1).wf = true) (w1 : (Lit.int .i64 a1).wf = true) (w2 : (Lit.int .i64 a2).wf = true) (hL : laidMetH Tryd.prog laid w) :
    Calls Tryd.prog 8 #[.agg #[.int .i64 a0_0, .int .i64 a0_1], .int .i64 a1, .int .i64 a2] w fun e w' => e = .returned (.bool true) ∧ Below w.heap.size w w' := by
  have HT := hide (tabs_of hL)
  have i0 := wf64 w0_0
  have i1 := wf64 w0_1
  have OA := fun w => hide (of_any a0_0 a0_1 a1 a2 w i0 i1)
  have RO := fun w => hide (refof_any a0_0 a0_1 a1 a2 w i0 i1)
  have K := fun w T => hide (known_any w T)
  unfold OfPost at OA RO
  clear hL w0_0 w0_1 w1 w2 i0 i1
  generalize ofV a0_0 a0_1 a1 a2 = V at *
  generalize ofN a0_0 a0_1 a1 a2 = A at *
  generalize ofD a0_0 a0_1 a1 a2 = B at *
  generalize ofE a0_0 a0_1 a1 a2 = E at *
  go_enter Tryd.func8, Tryd.ntmps8
  go_wp2_with fail
  refine (from_any _ _ _).mono ?_
  rintro e w1 ⟨rfl, hb⟩
  have c0 := (hb.cell (p := ⟨w.heap.size, 0, none⟩) (by simp)).trans (show _ = some (Value.int .i64 a0_0) by simp [go_sem])
  have c1 := (hb.cell (p := ⟨w.heap.size, 1, none⟩) (by simp)).trans (show _ = some (Value.int .i64 a0_1) by simp [go_sem])
  have z1 : w.heap.size + 1 ≤ w1.heap.size := by have := hb.size; simp at this; omega
  have HB1 := hide (show Below w.heap.size w w1 from ((Below.refl w.heap.size w).alloc (Nat.le_refl _) _).trans (hb.mono (by simp)))
  clear hb
  go_wp2_with fail
  refine (OA _).out.mono ?_
  rintro e w2 ⟨rfl, hb⟩
  have c0 := (hb.cell (p := ⟨w.heap.size, 0, none⟩) (by simp; omega)).trans c0
  have c1 := (hb.cell (p := ⟨w.heap.size, 1, none⟩) (by simp; omega)).trans c1
  have z2 : w.heap.size + 1 ≤ w2.heap.size := by have := hb.size; omega
  have HB2 := hide (HB1.out.trans (hb.mono HB1.out.size))
  clear hb
  have k0 : ∀ o, (w2.alloc o).cell? ⟨w.heap.size, 0, none⟩ = some (Value.int .i64 a0_0) := fun o => (((Below.refl w2.heap.size w2).alloc (Nat.le_refl _) o).cell (p := ⟨w.heap.size, 0, none⟩) (by simp; omega)).trans c0
  have k1 : ∀ o, (w2.alloc o).cell? ⟨w.heap.size, 1, none⟩ = some (Value.int .i64 a0_1) := fun o => (((Below.refl w2.heap.size w2).alloc (Nat.le_refl _) o).cell (p := ⟨w.heap.size, 1, none⟩) (by simp; omega)).trans c1
  go_wp2_with fail
  refine (RO _).out.mono ?_
  rintro e w3 ⟨rfl, hb⟩
  have c2 := (hb.cell (p := ⟨w2.heap.size, 0, none⟩) (by simp)).trans (show _ = some (Value.int .i64 A) by simp [go_sem])
  have c3 := (hb.cell (p := ⟨w2.heap.size, 1, none⟩) (by simp)).trans (show _ = some (Value.int .i64 B) by simp [go_sem])
  have z3 : w2.heap.size + 1 ≤ w3.heap.size := by have := hb.size; simp at this; omega
  have HB3 := hide (show Below w.heap.size w w3 from (HB2.out.alloc HB2.out.size _).trans (hb.mono (by have := HB2.out.size; simp; omega)))
  clear hb k0 k1
  go_wp2_with fail
  have HBW := hide (show Below w.heap.size w (w3.alloc (Obj.cells #[Value.int IntKind.i64 A, Value.int IntKind.i64 B] 27)) from HB3.out.alloc HB3.out.size _)
  have f0 := (((Below.refl w3.heap.size w3).alloc (Nat.le_refl _) (Obj.cells #[Value.int IntKind.i64 A, Value.int IntKind.i64 B] 27)).cell (p := ⟨w2.heap.size, 0, none⟩) (by simp; omega)).trans c2
  have f1 := (((Below.refl w3.heap.size w3).alloc (Nat.le_refl _) (Obj.cells #[Value.int IntKind.i64 A, Value.int IntKind.i64 B] 27)).cell (p := ⟨w2.heap.size, 1, none⟩) (by simp; omega)).trans c3
  have f2 : (w3.alloc (Obj.cells #[Value.int IntKind.i64 A, Value.int IntKind.i64 B] 27)).cell? ⟨w3.heap.size, 0, none⟩ = some (Value.int .i64 A) := by simp [go_sem]
  have f3 : (w3.alloc (Obj.cells #[Value.int IntKind.i64 A, Value.int IntKind.i64 B] 27)).cell? ⟨w3.heap.size, 1, none⟩ = some (Value.int .i64 B) := by simp [go_sem]
  have zW : w3.heap.size + 1 ≤ (w3.alloc (Obj.cells #[Value.int IntKind.i64 A, Value.int IntKind.i64 B] 27)).heap.size := by simp
  generalize w3.alloc (Obj.cells #[Value.int IntKind.i64 A, Value.int IntKind.i64 B] 27) = W at *
  have k0 : ∀ y : Sub W, y.val.cell? ⟨w2.heap.size, 0, none⟩ = some (Value.int .i64 A) := fun y => (y.below.cell (p := ⟨w2.heap.size, 0, none⟩) (by simp; omega)).trans f0
  have k1 : ∀ y : Sub W, y.val.cell? ⟨w2.heap.size, 1, none⟩ = some (Value.int .i64 B) := fun y => (y.below.cell (p := ⟨w2.heap.size, 1, none⟩) (by simp; omega)).trans f1
  have k2 : ∀ y : Sub W, y.val.cell? ⟨w3.heap.size, 0, none⟩ = some (Value.int .i64 A) := fun y => (y.below.cell (p := ⟨w3.heap.size, 0, none⟩) (by simp; omega)).trans f2
  have k3 : ∀ y : Sub W, y.val.cell? ⟨w3.heap.size, 1, none⟩ = some (Value.int .i64 B) := fun y => (y.below.cell (p := ⟨w3.heap.size, 1, none⟩) (by simp; omega)).trans f3
  have KT : ∀ y : Sub W, Hid (Tabs y.val) := fun y => hide (HT.out.keep (HBW.out.trans (y.below.mono HBW.out.size)))
  refine wp_region_sub (w0 := W) (by kernel_rfl) (by kernel_rfl) (Below.refl _ _).drew ?_
  repeat (first | go_big_quiet_step ((first | (go_at_call 14; exact sub_of _ (to_any _ _ _)) | (go_at_call 16; exact sub_of _ (K _ (KT _).out).out))) | quiet_step ((first | (go_at_call 14; exact sub_of _ (to_any _ _ _)) | (go_at_call 16; exact sub_of _ (K _ (KT _).out).out))))
  refine wpQuiet_nil ?_
  rintro _ ⟨y, rfl⟩
  go_wp2_with fail
  go_ret
  exact ⟨rfl, HBW.out.trans (y.below.mono HBW.out.size)⟩
end Go.Proofs.YtmdgjgeblplhpaaDoor
