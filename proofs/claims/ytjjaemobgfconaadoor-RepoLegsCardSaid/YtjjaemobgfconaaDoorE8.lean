/-
  The law's conversion.
-/
import Derived.Test.YtjjaemobgfconaaDoorE7
import Derived.Test.YtjjaemobgfconaaDoorTail
import Derived.WalkKit
import Derived.Deep.QuietTactic
import Derived.BigQuiet
import Derived.Laws.EntriesVeiled
import Derived.Lib.MinMax
import Derived.Deep.Light
import Derived.Laws.Rows
namespace Go.Proofs.YtjjaemobgfconaaDoor
open Go.RowKit
set_option linter.unusedVariables false
set_option linter.unusedSimpArgs false
set_option linter.unnecessarySimpa false

theorem of_any (n d : Int) (w : World) : Calls Tryd.prog 17 #[.agg #[.int .i64 n, .int .i64 d]] w fun e w' => e = .returned (.agg #[.int .i64 n, .int .i64 d]) ∧ Below w.heap.size w w' := by
  go_enter Tryd.func17, Tryd.ntmps17
  go_wp2_with fail
  exact bodyPost_ret (v := .agg #[.int .i64 n, .int .i64 d]) (by simp [results, Tryd.results17, go_sem]) rfl ⟨rfl, two_allocs _ _ _⟩
/-- A row of the call, read in every world that keeps it. -/
theorem row_cell {X y : World} {g : Nat} {cs : Array Value} {T : TypeId} (h : X.heap[g]? = some (.cells cs T (0, 0))) (hb : Below X.heap.size X y) (j : Nat) : y.cell? ⟨g, j, none⟩ = cs[j]? ∧ y.frozen? ⟨g, j, none⟩ = false := by
  have h2 : y.heap[g]? = some (.cells cs T (0, 0)) := (hb.block g (Array.getElem?_eq_some_iff.1 h).1).trans h
  exact ⟨cell_of_row y g j cs T (0, 0) h2, frozen_of_row y g j cs T h2⟩
set_option maxHeartbeats 4000000 in
set_option maxRecDepth 20000 in
theorem conv_any (t : Ag) (w : World) : Calls Tryd.prog 8 #[.agg #[.string t.rf, .string t.se, .string t.bu, .string t.sn, .int .i64 t.q, .int .i64 t.c, .int .i64 t.n, .int .i64 t.d, .int .i64 t.op, .int .i64 t.cl]] w fun e w' => e = .returned (.agg #[.string t.rf, .string t.se, .string t.bu, .string t.sn, .int .i64 t.q, .int .i64 t.c, .int .i64 t.n, .int .i64 t.d, .int .i64 t.op, .int .i64 t.cl]) ∧ Below w.heap.size w w' := by
  have OF := fun w => hide (of_any t.n t.d w)
  have HB := hide ((RB.new t w 25).keep (one_alloc _ (Obj.cells #[.string ⟨#[]⟩, .string ⟨#[]⟩, .string ⟨#[]⟩, .string ⟨#[]⟩, .int .i64 0, .int .i64 0, .int .i64 0, .int .i64 0, .int .i64 0, .int .i64 0] 28)))
  have hX : ((w.alloc (Obj.cells #[.string t.rf, .string t.se, .string t.bu, .string t.sn, .int .i64 t.q, .int .i64 t.c, .int .i64 t.n, .int .i64 t.d, .int .i64 t.op, .int .i64 t.cl] 25)).alloc (Obj.cells #[.string ⟨#[]⟩, .string ⟨#[]⟩, .string ⟨#[]⟩, .string ⟨#[]⟩, .int .i64 0, .int .i64 0, .int .i64 0, .int .i64 0, .int .i64 0, .int .i64 0] 28)).heap[w.heap.size + 1]? = some (.cells #[.string ⟨#[]⟩, .string ⟨#[]⟩, .string ⟨#[]⟩, .string ⟨#[]⟩, .int .i64 0, .int .i64 0, .int .i64 0, .int .i64 0, .int .i64 0, .int .i64 0] 28 (0, 0)) := by
    have h := Array.getElem?_push_size (xs := (w.alloc (Obj.cells #[.string t.rf, .string t.se, .string t.bu, .string t.sn, .int .i64 t.q, .int .i64 t.c, .int .i64 t.n, .int .i64 t.d, .int .i64 t.op, .int .i64 t.cl] 25)).heap) (x := Obj.cells #[.string ⟨#[]⟩, .string ⟨#[]⟩, .string ⟨#[]⟩, .string ⟨#[]⟩, .int .i64 0, .int .i64 0, .int .i64 0, .int .i64 0, .int .i64 0, .int .i64 0] 28)
    rw [show (w.alloc (Obj.cells #[.string t.rf, .string t.se, .string t.bu, .string t.sn, .int .i64 t.q, .int .i64 t.c, .int .i64 t.n, .int .i64 t.d, .int .i64 t.op, .int .i64 t.cl] 25)).heap.size = w.heap.size + 1 from Array.size_push _] at h
    exact h
  have HX := hide hX
  have HR := hide (two_allocs w (Obj.cells #[.string t.rf, .string t.se, .string t.bu, .string t.sn, .int .i64 t.q, .int .i64 t.c, .int .i64 t.n, .int .i64 t.d, .int .i64 t.op, .int .i64 t.cl] 25) (Obj.cells #[.string ⟨#[]⟩, .string ⟨#[]⟩, .string ⟨#[]⟩, .string ⟨#[]⟩, .int .i64 0, .int .i64 0, .int .i64 0, .int .i64 0, .int .i64 0, .int .i64 0] 28))
  clear hX
  go_enter Tryd.func8, Tryd.ntmps8
  go_wp2_with fail
  generalize (w.alloc (Obj.cells #[.string t.rf, .string t.se, .string t.bu, .string t.sn, .int .i64 t.q, .int .i64 t.c, .int .i64 t.n, .int .i64 t.d, .int .i64 t.op, .int .i64 t.cl] 25)).alloc (Obj.cells #[.string ⟨#[]⟩, .string ⟨#[]⟩, .string ⟨#[]⟩, .string ⟨#[]⟩, .int .i64 0, .int .i64 0, .int .i64 0, .int .i64 0, .int .i64 0, .int .i64 0] 28) = X at *
  have k0 : ∀ z : Sub X, z.val.cell? ⟨w.heap.size, 0, none⟩ = some (.string t.rf) := fun z => (HB.out.keep z.below).c0
  have k1 : ∀ z : Sub X, z.val.cell? ⟨w.heap.size, 1, none⟩ = some (.string t.se) := fun z => (HB.out.keep z.below).c1
  have k2 : ∀ z : Sub X, z.val.cell? ⟨w.heap.size, 2, none⟩ = some (.string t.bu) := fun z => (HB.out.keep z.below).c2
  have k3 : ∀ z : Sub X, z.val.cell? ⟨w.heap.size, 3, none⟩ = some (.string t.sn) := fun z => (HB.out.keep z.below).c3
  have k4 : ∀ z : Sub X, z.val.cell? ⟨w.heap.size, 4, none⟩ = some (.int .i64 t.q) := fun z => (HB.out.keep z.below).c4
  have k5 : ∀ z : Sub X, z.val.cell? ⟨w.heap.size, 5, none⟩ = some (.int .i64 t.c) := fun z => (HB.out.keep z.below).c5
  have k6 : ∀ z : Sub X, z.val.cell? ⟨w.heap.size, 6, none⟩ = some (.int .i64 t.n) := fun z => (HB.out.keep z.below).c6
  have k7 : ∀ z : Sub X, z.val.cell? ⟨w.heap.size, 7, none⟩ = some (.int .i64 t.d) := fun z => (HB.out.keep z.below).c7
  have k8 : ∀ z : Sub X, z.val.cell? ⟨w.heap.size, 8, none⟩ = some (.int .i64 t.op) := fun z => (HB.out.keep z.below).c8
  have k9 : ∀ z : Sub X, z.val.cell? ⟨w.heap.size, 9, none⟩ = some (.int .i64 t.cl) := fun z => (HB.out.keep z.below).c9
  refine wp_region_tail (C := fun w' => ∃ x : Sub X, w' = x.val) 20 (by kernel_rfl) (by kernel_rfl) ⟨⟨_, (Below.refl _ _).drew⟩, rfl⟩ ?_
  repeat (first | go_big_quiet_step ((go_at_call 17; exact sub_of _ (OF _).out)) | quiet_step ((go_at_call 17; exact sub_of _ (OF _).out)))
  refine wpQuiet_nil ?_
  rintro _ ⟨y, rfl⟩
  clear k0 k1 k2 k3 k4 k5 k6 k7 k8 k9
  have y0 : y.val.cell? ⟨w.heap.size + 1, 0, none⟩ = some (.string ⟨#[]⟩) := (row_cell HX.out y.below 0).1
  have y1 : y.val.cell? ⟨w.heap.size + 1, 1, none⟩ = some (.string ⟨#[]⟩) := (row_cell HX.out y.below 1).1
  have y2 : y.val.cell? ⟨w.heap.size + 1, 2, none⟩ = some (.string ⟨#[]⟩) := (row_cell HX.out y.below 2).1
  have y3 : y.val.cell? ⟨w.heap.size + 1, 3, none⟩ = some (.string ⟨#[]⟩) := (row_cell HX.out y.below 3).1
  have y4 : y.val.cell? ⟨w.heap.size + 1, 4, none⟩ = some (.int .i64 0) := (row_cell HX.out y.below 4).1
  have y5 : y.val.cell? ⟨w.heap.size + 1, 5, none⟩ = some (.int .i64 0) := (row_cell HX.out y.below 5).1
  have y6 : y.val.cell? ⟨w.heap.size + 1, 6, none⟩ = some (.int .i64 0) := (row_cell HX.out y.below 6).1
  have y7 : y.val.cell? ⟨w.heap.size + 1, 7, none⟩ = some (.int .i64 0) := (row_cell HX.out y.below 7).1
  have y8 : y.val.cell? ⟨w.heap.size + 1, 8, none⟩ = some (.int .i64 0) := (row_cell HX.out y.below 8).1
  have y9 : y.val.cell? ⟨w.heap.size + 1, 9, none⟩ = some (.int .i64 0) := (row_cell HX.out y.below 9).1
  have yf : ∀ j, y.val.frozen? ⟨w.heap.size + 1, j, none⟩ = false := fun j => (row_cell HX.out y.below j).2
  have HY := hide (HR.out.trans (y.below.mono HR.out.size))
  clear HB HR HX
  generalize y.val = Y at *
  go_wp2_with fail
  exact bodyPost_ret (v := .agg #[.string t.rf, .string t.se, .string t.bu, .string t.sn, .int .i64 t.q, .int .i64 t.c, .int .i64 t.n, .int .i64 t.d, .int .i64 t.op, .int .i64 t.cl]) (by simp [results, Tryd.results8, go_sem, y0, y1, y2, y3, y4, y5, y6, y7, y8, y9, yf]) rfl ⟨rfl, ((((((((((HY.out.setCell (p := ⟨w.heap.size + 1, 0, none⟩) (Nat.le_succ _) _).setCell (p := ⟨w.heap.size + 1, 1, none⟩) (Nat.le_succ _) _).setCell (p := ⟨w.heap.size + 1, 2, none⟩) (Nat.le_succ _) _).setCell (p := ⟨w.heap.size + 1, 3, none⟩) (Nat.le_succ _) _).setCell (p := ⟨w.heap.size + 1, 4, none⟩) (Nat.le_succ _) _).setCell (p := ⟨w.heap.size + 1, 5, none⟩) (Nat.le_succ _) _).setCell (p := ⟨w.heap.size + 1, 6, none⟩) (Nat.le_succ _) _).setCell (p := ⟨w.heap.size + 1, 7, none⟩) (Nat.le_succ _) _).setCell (p := ⟨w.heap.size + 1, 8, none⟩) (Nat.le_succ _) _).setCell (p := ⟨w.heap.size + 1, 9, none⟩) (Nat.le_succ _) _)⟩

end Go.Proofs.YtjjaemobgfconaaDoor
