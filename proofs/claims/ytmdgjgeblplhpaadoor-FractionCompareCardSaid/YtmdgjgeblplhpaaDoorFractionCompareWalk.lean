/-
  The walk of FractionCompare.
-/
import Derived.Test.YtmdgjgeblplhpaaDoorFrC
import Derived.Test.YtmdgjgeblplhpaaDoorFr20
import Derived.Test.YtmdgjgeblplhpaaDoorCl
import Derived.Deep.CutBlock
import Derived.Deep.DeepCutAuto
namespace Go.Proofs.YtmdgjgeblplhpaaDoor
open Go.RowKit
set_option linter.unusedVariables false
set_option linter.unusedSimpArgs false

set_option maxHeartbeats 8000000 in
set_option maxRecDepth 20000 in
theorem fractionCompare_walk (a0_0 a0_1 : Int) (a1_0 a1_1 : Int) (a2_0 a2_1 : Int) (w : World) (w0_0 : (Lit.int .i64 a0_0).wf = true) (w0_1 : (Lit.int .i64 a0_1).wf = true) (w1_0 : (Lit.int .i64 a1_0).wf = true) (w1_1 : (Lit.int .i64 a1_1).wf = true) (w2_0 : (Lit.int .i64 a2_0).wf = true) (w2_1 : (Lit.int .i64 a2_1).wf = true) (hL : laidMetH Tryd.prog laid w) :
    Calls Tryd.prog 7 #[.agg #[.int .i64 a0_0, .int .i64 a0_1], .agg #[.int .i64 a1_0, .int .i64 a1_1], .agg #[.int .i64 a2_0, .int .i64 a2_1]] w fun e w' => e = .returned (.bool true) ∧ Below w.heap.size w w' := by
  have HT := hide (tabs_of hL)
  clear hL
  have i0 := wf64 w0_0
  have i1 := wf64 w0_1
  have i2 := wf64 w1_0
  have i3 := wf64 w1_1
  have i4 := wf64 w2_0
  have i5 := wf64 w2_1
  have K := fun w T => hide (known_any w T)
  have CP01 := fun w => hide (compare_any a0_0 a0_1 a1_0 a1_1 w i0 i1 i2 i3)
  have CP10 := fun w => hide (compare_any a1_0 a1_1 a0_0 a0_1 w i2 i3 i0 i1)
  have CP12 := fun w => hide (compare_any a1_0 a1_1 a2_0 a2_1 w i2 i3 i4 i5)
  have CP02 := fun w => hide (compare_any a0_0 a0_1 a2_0 a2_1 w i0 i1 i4 i5)
  have RC01 := fun w => hide (rcompare_any a0_0 a0_1 a1_0 a1_1 w i0 i1 i2 i3)
  have SB := fun w => hide (fsub_any a0_0 a0_1 a1_0 a1_1 w i0 i1 i2 i3)
  have K0 := fun w => hide (check_any a0_0 a0_1 w i0.1 i0.2 i1.1 i1.2)
  have K1 := fun w => hide (check_any a1_0 a1_1 w i2.1 i2.2 i3.1 i3.2)
  have K2 := fun w => hide (check_any a2_0 a2_1 w i4.1 i4.2 i5.1 i5.2)
  have FN := hide (show wrap64 (-cpV a1_0 a1_1 a0_0 a0_1) = cpV a0_0 a0_1 a1_0 a1_1 by
    rw [cp_neg a1_0 a1_1 a0_0 a0_1, Int.neg_neg]
    unfold cpV
    refine wrap_small ?_ ?_ <;> (split <;> (try split) <;> (try split) <;> decide))
  have FS := hide (fun (h : cbE 1 a0_0 a0_1 a1_0 a1_1 = 0) => cp_sub h)
  have FT := hide (fun (h0 : ckE a0_0 a0_1 = 0) (h1 : ckE a1_0 a1_1 = 0) (h2 : ckE a2_0 a2_1 = 0) => cp_trans h0 h1 h2)
  have FZ := hide (fun (h0 : ckE a0_0 a0_1 = 0) (h1 : ckE a1_0 a1_1 = 0) => cp_zero h0 h1)
  clear i0 i1 i2 i3 i4 i5 w0_0 w0_1 w1_0 w1_1 w2_0 w2_1
  generalize cpV a0_0 a0_1 a1_0 a1_1 = C1 at *
  generalize cpV a1_0 a1_1 a0_0 a0_1 = C10 at *
  generalize cpV a1_0 a1_1 a2_0 a2_1 = C2 at *
  generalize cpV a0_0 a0_1 a2_0 a2_1 = C3 at *
  generalize cbN 1 a0_0 a0_1 a1_0 a1_1 = SN at *
  generalize cbD 1 a0_0 a0_1 a1_0 a1_1 = SD at *
  generalize cbE 1 a0_0 a0_1 a1_0 a1_1 = SE at *
  generalize ckE a0_0 a0_1 = E0 at *
  generalize ckE a1_0 a1_1 = E1 at *
  generalize ckE a2_0 a2_1 = E2 at *
  go_enter Tryd.func7, Tryd.ntmps7
  go_upto_region 1 with fail
  have HRC := hide (show RC w [(w.heap.size, a0_0, a0_1), (w.heap.size + 1, a1_0, a1_1), (w.heap.size + 1 + 1, a2_0, a2_1)] (w.heap.size + 3) (((w.alloc (Obj.cells #[Value.int IntKind.i64 a0_0, Value.int IntKind.i64 a0_1] 27)).alloc (Obj.cells #[Value.int IntKind.i64 a1_0, Value.int IntKind.i64 a1_1] 27)).alloc (Obj.cells #[Value.int IntKind.i64 a2_0, Value.int IntKind.i64 a2_1] 27)) from by
    refine ⟨((((Below.refl w.heap.size w).alloc (Nat.le_refl _) _).alloc (by simp) _).alloc (by simp; omega) _), by simp, by omega, ?_, ?_⟩
    · intro b x y hm
      simp only [List.mem_cons, List.not_mem_nil, or_false, Prod.mk.injEq] at hm
      rcases hm with ⟨rfl, rfl, rfl⟩ | ⟨rfl, rfl, rfl⟩ | ⟨rfl, rfl, rfl⟩ <;> refine ⟨by simp <;> omega, by simp [go_sem], by simp [go_sem]⟩
    · intro b x y hm
      simp only [List.mem_cons, List.not_mem_nil, or_false, Prod.mk.injEq] at hm
      rcases hm with ⟨rfl, rfl, rfl⟩ | ⟨rfl, rfl, rfl⟩ | ⟨rfl, rfl, rfl⟩ <;> omega)
  refine wp_region_inv (I := fun f a wx => ∃ (vL0 vC0 vL1 vC1 vL2 vC2 v7 v8 v9 : Value) (b7 b8 b9 : Nat) (x7 y7 x8 y8 x9 y9 : Int), a = { tmps := #[Value.agg #[Value.int IntKind.i64 a0_0, Value.int IntKind.i64 a0_1], Value.agg #[Value.int IntKind.i64 a1_0, Value.int IntKind.i64 a1_1], Value.agg #[Value.int IntKind.i64 a2_0, Value.int IntKind.i64 a2_1], Value.pointer (some { block := w.heap.size, off := 0 }), Value.pointer (some { block := w.heap.size + 1, off := 0 }), Value.pointer (some { block := w.heap.size + 1 + 1, off := 0 }), Value.bool false, v7, v8, v9, undef, undef, vL0, vC0, vL1, vC1, vL2, vC2, undef, undef, undef, undef, undef, undef, undef, undef, undef, undef, undef, undef, undef, undef, undef, undef, undef, undef, undef, undef, undef, undef, undef, undef, undef, undef, undef, undef, undef, undef, undef, undef, undef, undef, undef, undef, undef, undef, undef, undef, undef, undef, undef, undef, undef, undef, undef, undef, undef, undef, undef, undef, undef, undef, undef, undef, undef, undef, undef, undef, undef, undef, undef, undef, undef, undef, undef, undef, undef, undef, undef, undef, undef, undef, undef, undef, undef, undef, undef, undef, undef, undef, undef, undef], defers := [] } ∧ Hid (RC w [(w.heap.size, a0_0, a0_1), (w.heap.size + 1, a1_0, a1_1), (w.heap.size + 1 + 1, a2_0, a2_1)] (w.heap.size + 3) wx) ∧ Hid (f 0 = true → vL0 = Value.agg #[Value.int IntKind.i64 a0_0, Value.int IntKind.i64 a0_1]) ∧ Hid (f 1 = true → vC0 = Value.agg #[Value.int IntKind.i64 a0_0, Value.int IntKind.i64 a0_1]) ∧ Hid (f 2 = true → vL1 = Value.agg #[Value.int IntKind.i64 a1_0, Value.int IntKind.i64 a1_1]) ∧ Hid (f 3 = true → vC1 = Value.agg #[Value.int IntKind.i64 a1_0, Value.int IntKind.i64 a1_1]) ∧ Hid (f 4 = true → vL2 = Value.agg #[Value.int IntKind.i64 a2_0, Value.int IntKind.i64 a2_1]) ∧ Hid (f 5 = true → vC2 = Value.agg #[Value.int IntKind.i64 a2_0, Value.int IntKind.i64 a2_1]) ∧ Hid (f 6 = true → v7 = Value.pointer (some { block := b7, off := 0 }) ∧ FB (w.heap.size + 3) b7 x7 y7 wx ∧ (f 9 = true → x7 = a0_0 ∧ y7 = a0_1)) ∧ Hid (f 7 = true → v8 = Value.pointer (some { block := b8, off := 0 }) ∧ FB (w.heap.size + 3) b8 x8 y8 wx ∧ (f 10 = true → x8 = a1_0 ∧ y8 = a1_1)) ∧ Hid (f 8 = true → v9 = Value.pointer (some { block := b9, off := 0 }) ∧ FB (w.heap.size + 3) b9 x9 y9 wx ∧ (f 11 = true → x9 = a2_0 ∧ y9 = a2_1)) ∧ Hid (f 6 = true → f 7 = true → b7 ≠ b8) ∧ Hid (f 6 = true → f 8 = true → b7 ≠ b9) ∧ Hid (f 7 = true → f 8 = true → b8 ≠ b9) ∧ Hid (f 9 = true → f 6 = true) ∧ Hid (f 10 = true → f 7 = true) ∧ Hid (f 11 = true → f 8 = true)) (by kernel_rfl) (by kernel_rfl) ?_ ?_ ?_
  · exact ⟨_, _, _, _, _, _, _, _, _, 0, 0, 0, 0, 0, 0, 0, 0, 0, rfl, hide (HRC.out.keep ((Below.refl _ _).drew)), hide (fun h => Bool.noConfusion h), hide (fun h => Bool.noConfusion h), hide (fun h => Bool.noConfusion h), hide (fun h => Bool.noConfusion h), hide (fun h => Bool.noConfusion h), hide (fun h => Bool.noConfusion h), hide (fun h => Bool.noConfusion h), hide (fun h => Bool.noConfusion h), hide (fun h => Bool.noConfusion h), hide (fun h => Bool.noConfusion h), hide (fun h => Bool.noConfusion h), hide (fun h => Bool.noConfusion h), hide (fun h => Bool.noConfusion h), hide (fun h => Bool.noConfusion h), hide (fun h => Bool.noConfusion h)⟩
  · intro i hi f a wx hfi hB hI
    obtain ⟨vL0, vC0, vL1, vC1, vL2, vC2, v7, v8, v9, b7, b8, b9, x7, y7, x8, y8, x9, y9, rfl, HW, F0, F1, F2, F3, F4, F5, A7, A8, A9, D0, D1, D2, R0, R1, R2⟩ := hI
    clear HRC
    have hi12 : i < 12 := hi
    have hi3 : i = 0 ∨ i = 1 ∨ i = 2 ∨ i = 3 ∨ i = 4 ∨ i = 5 ∨ i = 6 ∨ i = 7 ∨ i = 8 ∨ i = 9 ∨ i = 10 ∨ i = 11 := by omega
    clear hi hi12
    rcases hi3 with rfl | rfl | rfl | rfl | rfl | rfl | rfl | rfl | rfl | rfl | rfl | rfl
    · skip
      refine wpOp_list' (o := _) rfl (fun K hK => ?_)
      obtain ⟨_, c0, c1⟩ := HW.out.cl (w.heap.size) a0_0 a0_1 (by simp)
      go_wp2_with fail
      exact hK.out _ _ ⟨_, _, _, _, _, _, _, _, _, b7, b8, b9, x7, y7, x8, y8, x9, y9, rfl, HW, hide (fun _ => rfl), F1, F2, F3, F4, F5, A7, A8, A9, D0, D1, D2, R0, R1, R2⟩
    · skip
      have d := F0.out (hB.dep 0 (by kernel_rfl))
      subst d
      refine wpOp_list' (o := _) rfl (fun K hK => ?_)
      go_wp2_with fail
      refine (from_any _ _ _).mono ?_
      rintro e wy ⟨rfl, hb⟩
      have HW := hide (HW.out.keep hb)
      have A7 := hide (fun h => And.intro (A7.out h).1 (And.intro ((A7.out h).2.1.keep hb) (A7.out h).2.2))
      have A8 := hide (fun h => And.intro (A8.out h).1 (And.intro ((A8.out h).2.1.keep hb) (A8.out h).2.2))
      have A9 := hide (fun h => And.intro (A9.out h).1 (And.intro ((A9.out h).2.1.keep hb) (A9.out h).2.2))
      go_wp2_with fail
      exact hK.out _ _ ⟨_, _, _, _, _, _, _, _, _, b7, b8, b9, x7, y7, x8, y8, x9, y9, rfl, HW, hide (fun _ => rfl), hide (fun _ => rfl), F2, F3, F4, F5, A7, A8, A9, D0, D1, D2, R0, R1, R2⟩
    · skip
      refine wpOp_list' (o := _) rfl (fun K hK => ?_)
      obtain ⟨_, c0, c1⟩ := HW.out.cl (w.heap.size + 1) a1_0 a1_1 (by simp)
      go_wp2_with fail
      exact hK.out _ _ ⟨_, _, _, _, _, _, _, _, _, b7, b8, b9, x7, y7, x8, y8, x9, y9, rfl, HW, F0, F1, hide (fun _ => rfl), F3, F4, F5, A7, A8, A9, D0, D1, D2, R0, R1, R2⟩
    · skip
      have d := F2.out (hB.dep 2 (by kernel_rfl))
      subst d
      refine wpOp_list' (o := _) rfl (fun K hK => ?_)
      go_wp2_with fail
      refine (from_any _ _ _).mono ?_
      rintro e wy ⟨rfl, hb⟩
      have HW := hide (HW.out.keep hb)
      have A7 := hide (fun h => And.intro (A7.out h).1 (And.intro ((A7.out h).2.1.keep hb) (A7.out h).2.2))
      have A8 := hide (fun h => And.intro (A8.out h).1 (And.intro ((A8.out h).2.1.keep hb) (A8.out h).2.2))
      have A9 := hide (fun h => And.intro (A9.out h).1 (And.intro ((A9.out h).2.1.keep hb) (A9.out h).2.2))
      go_wp2_with fail
      exact hK.out _ _ ⟨_, _, _, _, _, _, _, _, _, b7, b8, b9, x7, y7, x8, y8, x9, y9, rfl, HW, F0, F1, hide (fun _ => rfl), hide (fun _ => rfl), F4, F5, A7, A8, A9, D0, D1, D2, R0, R1, R2⟩
    · skip
      refine wpOp_list' (o := _) rfl (fun K hK => ?_)
      obtain ⟨_, c0, c1⟩ := HW.out.cl (w.heap.size + 1 + 1) a2_0 a2_1 (by simp)
      go_wp2_with fail
      exact hK.out _ _ ⟨_, _, _, _, _, _, _, _, _, b7, b8, b9, x7, y7, x8, y8, x9, y9, rfl, HW, F0, F1, F2, F3, hide (fun _ => rfl), F5, A7, A8, A9, D0, D1, D2, R0, R1, R2⟩
    · skip
      have d := F4.out (hB.dep 4 (by kernel_rfl))
      subst d
      refine wpOp_list' (o := _) rfl (fun K hK => ?_)
      go_wp2_with fail
      refine (from_any _ _ _).mono ?_
      rintro e wy ⟨rfl, hb⟩
      have HW := hide (HW.out.keep hb)
      have A7 := hide (fun h => And.intro (A7.out h).1 (And.intro ((A7.out h).2.1.keep hb) (A7.out h).2.2))
      have A8 := hide (fun h => And.intro (A8.out h).1 (And.intro ((A8.out h).2.1.keep hb) (A8.out h).2.2))
      have A9 := hide (fun h => And.intro (A9.out h).1 (And.intro ((A9.out h).2.1.keep hb) (A9.out h).2.2))
      go_wp2_with fail
      exact hK.out _ _ ⟨_, _, _, _, _, _, _, _, _, b7, b8, b9, x7, y7, x8, y8, x9, y9, rfl, HW, F0, F1, F2, F3, hide (fun _ => rfl), hide (fun _ => rfl), A7, A8, A9, D0, D1, D2, R0, R1, R2⟩
    · skip
      refine wpOp_list' (o := _) rfl (fun K hK => ?_)
      go_wp2_with fail
      have s2 := HW.out.size
      have HW := hide (HW.out.keep ((Below.refl _ _).alloc (Nat.le_refl _) (Obj.cells #[Value.int IntKind.i64 0, Value.int IntKind.i64 0] 23)))
      have B8 := hide (fun h => (A8.out h).2.1.hi)
      have A8 := hide (fun h => And.intro (A8.out h).1 (And.intro ((A8.out h).2.1.keep ((Below.refl _ _).alloc (Nat.le_refl _) (Obj.cells #[Value.int IntKind.i64 0, Value.int IntKind.i64 0] 23))) (A8.out h).2.2))
      have B9 := hide (fun h => (A9.out h).2.1.hi)
      have A9 := hide (fun h => And.intro (A9.out h).1 (And.intro ((A9.out h).2.1.keep ((Below.refl _ _).alloc (Nat.le_refl _) (Obj.cells #[Value.int IntKind.i64 0, Value.int IntKind.i64 0] 23))) (A9.out h).2.2))
      exact hK.out _ _ ⟨_, _, _, _, _, _, _, _, _, wx.heap.size, b8, b9, 0, 0, x8, y8, x9, y9, rfl, HW, F0, F1, F2, F3, F4, F5, hide (fun _ => ⟨rfl, ⟨s2, by simp, by simp [go_sem], by simp [go_sem], by simp [go_sem], by simp [go_sem]⟩, fun h => by have := R0.out h; rw [hfi] at this; cases this⟩), A8, A9, hide (fun _ h => by have := B8.out h; omega), hide (fun _ h => by have := B9.out h; omega), D2, hide (fun _ => rfl), R1, R2⟩
    · skip
      refine wpOp_list' (o := _) rfl (fun K hK => ?_)
      go_wp2_with fail
      have s2 := HW.out.size
      have HW := hide (HW.out.keep ((Below.refl _ _).alloc (Nat.le_refl _) (Obj.cells #[Value.int IntKind.i64 0, Value.int IntKind.i64 0] 23)))
      have B7 := hide (fun h => (A7.out h).2.1.hi)
      have A7 := hide (fun h => And.intro (A7.out h).1 (And.intro ((A7.out h).2.1.keep ((Below.refl _ _).alloc (Nat.le_refl _) (Obj.cells #[Value.int IntKind.i64 0, Value.int IntKind.i64 0] 23))) (A7.out h).2.2))
      have B9 := hide (fun h => (A9.out h).2.1.hi)
      have A9 := hide (fun h => And.intro (A9.out h).1 (And.intro ((A9.out h).2.1.keep ((Below.refl _ _).alloc (Nat.le_refl _) (Obj.cells #[Value.int IntKind.i64 0, Value.int IntKind.i64 0] 23))) (A9.out h).2.2))
      exact hK.out _ _ ⟨_, _, _, _, _, _, _, _, _, b7, wx.heap.size, b9, x7, y7, 0, 0, x9, y9, rfl, HW, F0, F1, F2, F3, F4, F5, A7, hide (fun _ => ⟨rfl, ⟨s2, by simp, by simp [go_sem], by simp [go_sem], by simp [go_sem], by simp [go_sem]⟩, fun h => by have := R1.out h; rw [hfi] at this; cases this⟩), A9, hide (fun h _ => by have := B7.out h; omega), D1, hide (fun _ h => by have := B9.out h; omega), R0, hide (fun _ => rfl), R2⟩
    · skip
      refine wpOp_list' (o := _) rfl (fun K hK => ?_)
      go_wp2_with fail
      have s2 := HW.out.size
      have HW := hide (HW.out.keep ((Below.refl _ _).alloc (Nat.le_refl _) (Obj.cells #[Value.int IntKind.i64 0, Value.int IntKind.i64 0] 23)))
      have B7 := hide (fun h => (A7.out h).2.1.hi)
      have A7 := hide (fun h => And.intro (A7.out h).1 (And.intro ((A7.out h).2.1.keep ((Below.refl _ _).alloc (Nat.le_refl _) (Obj.cells #[Value.int IntKind.i64 0, Value.int IntKind.i64 0] 23))) (A7.out h).2.2))
      have B8 := hide (fun h => (A8.out h).2.1.hi)
      have A8 := hide (fun h => And.intro (A8.out h).1 (And.intro ((A8.out h).2.1.keep ((Below.refl _ _).alloc (Nat.le_refl _) (Obj.cells #[Value.int IntKind.i64 0, Value.int IntKind.i64 0] 23))) (A8.out h).2.2))
      exact hK.out _ _ ⟨_, _, _, _, _, _, _, _, _, b7, b8, wx.heap.size, x7, y7, x8, y8, 0, 0, rfl, HW, F0, F1, F2, F3, F4, F5, A7, A8, hide (fun _ => ⟨rfl, ⟨s2, by simp, by simp [go_sem], by simp [go_sem], by simp [go_sem], by simp [go_sem]⟩, fun h => by have := R2.out h; rw [hfi] at this; cases this⟩), D0, hide (fun h _ => by have := B7.out h; omega), hide (fun h _ => by have := B8.out h; omega), R0, R1, hide (fun _ => rfl)⟩
    · skip
      have h6 := hB.dep 6 (by kernel_rfl)
      have d := F1.out (hB.dep 1 (by kernel_rfl))
      subst d
      obtain ⟨rfl, fb, _⟩ := A7.out h6
      obtain ⟨lo, hi2, c0, c1, z0, z1⟩ := fb
      have H6 := hide h6
      clear h6
      refine wpOp_list' (o := _) rfl (fun K hK => ?_)
      go_wp2_with fail
      have HW := hide (HW.out.store (u := .int .i64 a0_0) (v := .int .i64 a0_1) lo)
      have A8 := hide (fun h => And.intro (A8.out h).1 (And.intro ((A8.out h).2.1.other (u := .int .i64 a0_0) (v := .int .i64 a0_1) (fun e => D0.out H6.out h e.symm)) (A8.out h).2.2))
      have A9 := hide (fun h => And.intro (A9.out h).1 (And.intro ((A9.out h).2.1.other (u := .int .i64 a0_0) (v := .int .i64 a0_1) (fun e => D1.out H6.out h e.symm)) (A9.out h).2.2))
      exact hK.out _ _ ⟨_, _, _, _, _, _, _, _, _, b7, b8, b9, a0_0, a0_1, x8, y8, x9, y9, rfl, HW, F0, hide (fun _ => rfl), F2, F3, F4, F5, hide (fun _ => ⟨rfl, FB.store ⟨lo, hi2, c0, c1, z0, z1⟩ _ _, fun _ => ⟨rfl, rfl⟩⟩), A8, A9, D0, D1, D2, hide (fun _ => H6.out), R1, R2⟩
    · skip
      have h6 := hB.dep 7 (by kernel_rfl)
      have d := F3.out (hB.dep 3 (by kernel_rfl))
      subst d
      obtain ⟨rfl, fb, _⟩ := A8.out h6
      obtain ⟨lo, hi2, c0, c1, z0, z1⟩ := fb
      have H6 := hide h6
      clear h6
      refine wpOp_list' (o := _) rfl (fun K hK => ?_)
      go_wp2_with fail
      have HW := hide (HW.out.store (u := .int .i64 a1_0) (v := .int .i64 a1_1) lo)
      have A7 := hide (fun h => And.intro (A7.out h).1 (And.intro ((A7.out h).2.1.other (u := .int .i64 a1_0) (v := .int .i64 a1_1) (D0.out h H6.out)) (A7.out h).2.2))
      have A9 := hide (fun h => And.intro (A9.out h).1 (And.intro ((A9.out h).2.1.other (u := .int .i64 a1_0) (v := .int .i64 a1_1) (fun e => D2.out H6.out h e.symm)) (A9.out h).2.2))
      exact hK.out _ _ ⟨_, _, _, _, _, _, _, _, _, b7, b8, b9, x7, y7, a1_0, a1_1, x9, y9, rfl, HW, F0, F1, F2, hide (fun _ => rfl), F4, F5, A7, hide (fun _ => ⟨rfl, FB.store ⟨lo, hi2, c0, c1, z0, z1⟩ _ _, fun _ => ⟨rfl, rfl⟩⟩), A9, D0, D1, D2, R0, hide (fun _ => H6.out), R2⟩
    · skip
      have h6 := hB.dep 8 (by kernel_rfl)
      have d := F5.out (hB.dep 5 (by kernel_rfl))
      subst d
      obtain ⟨rfl, fb, _⟩ := A9.out h6
      obtain ⟨lo, hi2, c0, c1, z0, z1⟩ := fb
      have H6 := hide h6
      clear h6
      refine wpOp_list' (o := _) rfl (fun K hK => ?_)
      go_wp2_with fail
      have HW := hide (HW.out.store (u := .int .i64 a2_0) (v := .int .i64 a2_1) lo)
      have A7 := hide (fun h => And.intro (A7.out h).1 (And.intro ((A7.out h).2.1.other (u := .int .i64 a2_0) (v := .int .i64 a2_1) (D1.out h H6.out)) (A7.out h).2.2))
      have A8 := hide (fun h => And.intro (A8.out h).1 (And.intro ((A8.out h).2.1.other (u := .int .i64 a2_0) (v := .int .i64 a2_1) (D2.out h H6.out)) (A8.out h).2.2))
      exact hK.out _ _ ⟨_, _, _, _, _, _, _, _, _, b7, b8, b9, x7, y7, x8, y8, a2_0, a2_1, rfl, HW, F0, F1, F2, F3, F4, hide (fun _ => rfl), A7, A8, hide (fun _ => ⟨rfl, FB.store ⟨lo, hi2, c0, c1, z0, z1⟩ _ _, fun _ => ⟨rfl, rfl⟩⟩), D0, D1, D2, R0, R1, hide (fun _ => H6.out)⟩
  · intro f a wx hall hI
    obtain ⟨vL0, vC0, vL1, vC1, vL2, vC2, v7, v8, v9, b7, b8, b9, x7, y7, x8, y8, x9, y9, rfl, HW, F0, F1, F2, F3, F4, F5, A7, A8, A9, D0, D1, D2, R0, R1, R2⟩ := hI
    have e0 := F0.out (hall 0 (by decide))
    subst e0
    have e1 := F1.out (hall 1 (by decide))
    subst e1
    have e2 := F2.out (hall 2 (by decide))
    subst e2
    have e3 := F3.out (hall 3 (by decide))
    subst e3
    have e4 := F4.out (hall 4 (by decide))
    subst e4
    have e5 := F5.out (hall 5 (by decide))
    subst e5
    obtain ⟨rfl, fb0, g⟩ := A7.out (hall 6 (by decide))
    obtain ⟨g1, g2⟩ := g (hall 9 (by decide))
    have g1 := g1.symm
    have g2 := g2.symm
    subst g1
    subst g2
    obtain ⟨rfl, fb1, g⟩ := A8.out (hall 7 (by decide))
    obtain ⟨g1, g2⟩ := g (hall 10 (by decide))
    have g1 := g1.symm
    have g2 := g2.symm
    subst g1
    subst g2
    obtain ⟨rfl, fb2, g⟩ := A9.out (hall 8 (by decide))
    obtain ⟨g1, g2⟩ := g (hall 11 (by decide))
    have g1 := g1.symm
    have g2 := g2.symm
    subst g1
    subst g2
    have HB1 := hide HW.out.below
    have HC := hide (((HW.out.cl.cons fb2.hi fb2.c0 fb2.c1).cons fb1.hi fb1.c0 fb1.c1).cons fb0.hi fb0.c0 fb0.c1)
    have HS := hide HW.out.size
    clear F0 F1 F2 F3 F4 F5 A7 A8 A9 D0 D1 D2 R0 R1 R2 hall HRC fb0 fb1 fb2 HW
    have HR := hide (RC.mk HB1.out (Nat.le_refl wx.heap.size) HB1.out.size HC.out (fun c x y hm => (HC.out c x y hm).1))
    clear HC HS HB1
    have FN := FN.out
    go_upto_region 2 with fail
    have k0 : ∀ z : Sub wx, z.val.cell? ⟨b7, 0, none⟩ = some (Value.int .i64 a0_0) := fun z => (((HR.out.keep z.below).cl (b7) a0_0 a0_1 (by simp)).2.1)
    have k1 : ∀ z : Sub wx, z.val.cell? ⟨b7, 1, none⟩ = some (Value.int .i64 a0_1) := fun z => (((HR.out.keep z.below).cl (b7) a0_0 a0_1 (by simp)).2.2)
    have k2 : ∀ z : Sub wx, z.val.cell? ⟨b8, 0, none⟩ = some (Value.int .i64 a1_0) := fun z => (((HR.out.keep z.below).cl (b8) a1_0 a1_1 (by simp)).2.1)
    have k3 : ∀ z : Sub wx, z.val.cell? ⟨b8, 1, none⟩ = some (Value.int .i64 a1_1) := fun z => (((HR.out.keep z.below).cl (b8) a1_0 a1_1 (by simp)).2.2)
    have k4 : ∀ z : Sub wx, z.val.cell? ⟨b9, 0, none⟩ = some (Value.int .i64 a2_0) := fun z => (((HR.out.keep z.below).cl (b9) a2_0 a2_1 (by simp)).2.1)
    have k5 : ∀ z : Sub wx, z.val.cell? ⟨b9, 1, none⟩ = some (Value.int .i64 a2_1) := fun z => (((HR.out.keep z.below).cl (b9) a2_0 a2_1 (by simp)).2.2)
    have k6 : ∀ z : Sub wx, z.val.cell? ⟨w.heap.size, 0, none⟩ = some (Value.int .i64 a0_0) := fun z => (((HR.out.keep z.below).cl (w.heap.size) a0_0 a0_1 (by simp)).2.1)
    have k7 : ∀ z : Sub wx, z.val.cell? ⟨w.heap.size, 1, none⟩ = some (Value.int .i64 a0_1) := fun z => (((HR.out.keep z.below).cl (w.heap.size) a0_0 a0_1 (by simp)).2.2)
    have k8 : ∀ z : Sub wx, z.val.cell? ⟨w.heap.size + 1, 0, none⟩ = some (Value.int .i64 a1_0) := fun z => (((HR.out.keep z.below).cl (w.heap.size + 1) a1_0 a1_1 (by simp)).2.1)
    have k9 : ∀ z : Sub wx, z.val.cell? ⟨w.heap.size + 1, 1, none⟩ = some (Value.int .i64 a1_1) := fun z => (((HR.out.keep z.below).cl (w.heap.size + 1) a1_0 a1_1 (by simp)).2.2)
    have k10 : ∀ z : Sub wx, z.val.cell? ⟨w.heap.size + 1 + 1, 0, none⟩ = some (Value.int .i64 a2_0) := fun z => (((HR.out.keep z.below).cl (w.heap.size + 1 + 1) a2_0 a2_1 (by simp)).2.1)
    have k11 : ∀ z : Sub wx, z.val.cell? ⟨w.heap.size + 1 + 1, 1, none⟩ = some (Value.int .i64 a2_1) := fun z => (((HR.out.keep z.below).cl (w.heap.size + 1 + 1) a2_0 a2_1 (by simp)).2.2)
    refine wp_region_sub (w0 := wx) (by kernel_rfl) (by kernel_rfl) (Below.refl _ _).drew ?_
    repeat (first | go_big_quiet_step ((first | (go_at_call 21; with_reducible exact sub_of _ (CP01 _).out) | (go_at_call 21; with_reducible exact sub_of _ (CP10 _).out) | (go_at_call 22; exact sub_of _ (RC01 _).out))) | quiet_step ((first | (go_at_call 21; with_reducible exact sub_of _ (CP01 _).out) | (go_at_call 21; with_reducible exact sub_of _ (CP10 _).out) | (go_at_call 22; exact sub_of _ (RC01 _).out))))
    refine wpQuiet_nil ?_
    rintro _ ⟨z, rfl⟩
    have HR := hide (HR.out.keep z.below)
    clear k0 k1 k2 k3 k4 k5 k6 k7 k8 k9 k10 k11
    clear FN
    obtain ⟨_, c0, c1⟩ := HR.out.cl (b7) a0_0 a0_1 (by simp)
    obtain ⟨_, c2, c3⟩ := HR.out.cl (b8) a1_0 a1_1 (by simp)
    obtain ⟨_, c4, c5⟩ := HR.out.cl (b9) a2_0 a2_1 (by simp)
    obtain ⟨_, c6, c7⟩ := HR.out.cl (w.heap.size) a0_0 a0_1 (by simp)
    obtain ⟨_, c8, c9⟩ := HR.out.cl (w.heap.size + 1) a1_0 a1_1 (by simp)
    obtain ⟨_, c10, c11⟩ := HR.out.cl (w.heap.size + 1 + 1) a2_0 a2_1 (by simp)
    go_wp2_with fail
    refine ((SB _).out).mono ?_
    rintro e wq1 ⟨rfl, hb⟩
    have HR := hide (HR.out.keep hb)
    clear hb c0 c1 c2 c3 c4 c5 c6 c7 c8 c9 c10 c11
    obtain ⟨_, c0, c1⟩ := HR.out.cl (b7) a0_0 a0_1 (by simp)
    obtain ⟨_, c2, c3⟩ := HR.out.cl (b8) a1_0 a1_1 (by simp)
    obtain ⟨_, c4, c5⟩ := HR.out.cl (b9) a2_0 a2_1 (by simp)
    obtain ⟨_, c6, c7⟩ := HR.out.cl (w.heap.size) a0_0 a0_1 (by simp)
    obtain ⟨_, c8, c9⟩ := HR.out.cl (w.heap.size + 1) a1_0 a1_1 (by simp)
    obtain ⟨_, c10, c11⟩ := HR.out.cl (w.heap.size + 1 + 1) a2_0 a2_1 (by simp)
    by_cases hE : SE = 0
    · have s1 : decide (0 < SN) = decide (0 < C1) := by simpa using (FS.out hE).1
      have s2 : decide (SN < 0) = decide (C1 < 0) := by simpa using (FS.out hE).2
      subst hE
      go_upto_region 6 with fail
      have HR := hide (HR.out.keep ((Below.refl _ _).alloc (Nat.le_refl _) (Obj.cells #[Value.int IntKind.i64 SN, Value.int IntKind.i64 SD] 23)))
      have d0 : (wq1.alloc (Obj.cells #[Value.int IntKind.i64 SN, Value.int IntKind.i64 SD] 23)).cell? ⟨wq1.heap.size, 0, none⟩ = some (Value.int .i64 SN) := by simp [go_sem]
      have zW : wq1.heap.size + 1 ≤ (wq1.alloc (Obj.cells #[Value.int IntKind.i64 SN, Value.int IntKind.i64 SD] 23)).heap.size := by simp
      generalize (wq1.alloc (Obj.cells #[Value.int IntKind.i64 SN, Value.int IntKind.i64 SD] 23)) = W at *
      clear c0 c1 c2 c3 c4 c5 c6 c7 c8 c9 c10 c11
      have k0 : ∀ z : Sub W, z.val.cell? ⟨b7, 0, none⟩ = some (Value.int .i64 a0_0) := fun z => (((HR.out.keep z.below).cl (b7) a0_0 a0_1 (by simp)).2.1)
      have k1 : ∀ z : Sub W, z.val.cell? ⟨b7, 1, none⟩ = some (Value.int .i64 a0_1) := fun z => (((HR.out.keep z.below).cl (b7) a0_0 a0_1 (by simp)).2.2)
      have k2 : ∀ z : Sub W, z.val.cell? ⟨b8, 0, none⟩ = some (Value.int .i64 a1_0) := fun z => (((HR.out.keep z.below).cl (b8) a1_0 a1_1 (by simp)).2.1)
      have k3 : ∀ z : Sub W, z.val.cell? ⟨b8, 1, none⟩ = some (Value.int .i64 a1_1) := fun z => (((HR.out.keep z.below).cl (b8) a1_0 a1_1 (by simp)).2.2)
      have k4 : ∀ z : Sub W, z.val.cell? ⟨b9, 0, none⟩ = some (Value.int .i64 a2_0) := fun z => (((HR.out.keep z.below).cl (b9) a2_0 a2_1 (by simp)).2.1)
      have k5 : ∀ z : Sub W, z.val.cell? ⟨b9, 1, none⟩ = some (Value.int .i64 a2_1) := fun z => (((HR.out.keep z.below).cl (b9) a2_0 a2_1 (by simp)).2.2)
      have k6 : ∀ z : Sub W, z.val.cell? ⟨w.heap.size, 0, none⟩ = some (Value.int .i64 a0_0) := fun z => (((HR.out.keep z.below).cl (w.heap.size) a0_0 a0_1 (by simp)).2.1)
      have k7 : ∀ z : Sub W, z.val.cell? ⟨w.heap.size, 1, none⟩ = some (Value.int .i64 a0_1) := fun z => (((HR.out.keep z.below).cl (w.heap.size) a0_0 a0_1 (by simp)).2.2)
      have k8 : ∀ z : Sub W, z.val.cell? ⟨w.heap.size + 1, 0, none⟩ = some (Value.int .i64 a1_0) := fun z => (((HR.out.keep z.below).cl (w.heap.size + 1) a1_0 a1_1 (by simp)).2.1)
      have k9 : ∀ z : Sub W, z.val.cell? ⟨w.heap.size + 1, 1, none⟩ = some (Value.int .i64 a1_1) := fun z => (((HR.out.keep z.below).cl (w.heap.size + 1) a1_0 a1_1 (by simp)).2.2)
      have k10 : ∀ z : Sub W, z.val.cell? ⟨w.heap.size + 1 + 1, 0, none⟩ = some (Value.int .i64 a2_0) := fun z => (((HR.out.keep z.below).cl (w.heap.size + 1 + 1) a2_0 a2_1 (by simp)).2.1)
      have k11 : ∀ z : Sub W, z.val.cell? ⟨w.heap.size + 1 + 1, 1, none⟩ = some (Value.int .i64 a2_1) := fun z => (((HR.out.keep z.below).cl (w.heap.size + 1 + 1) a2_0 a2_1 (by simp)).2.2)
      have k12 : ∀ z : Sub W, z.val.cell? ⟨wq1.heap.size, 0, none⟩ = some (Value.int .i64 SN) := fun z => (z.below.cell (p := ⟨wq1.heap.size, 0, none⟩) (by simp; omega)).trans d0
      refine wp_region_sub (w0 := W) (by kernel_rfl) (by kernel_rfl) (Below.refl _ _).drew ?_
      repeat (first | go_big_quiet_step ((go_at_call_of 21 (Value.agg #[Value.int IntKind.i64 a0_0, Value.int IntKind.i64 a0_1]); exact sub_of _ (CP01 _).out)) | quiet_step ((go_at_call_of 21 (Value.agg #[Value.int IntKind.i64 a0_0, Value.int IntKind.i64 a0_1]); exact sub_of _ (CP01 _).out)))
      refine wpQuiet_nil ?_
      rintro _ ⟨zz, rfl⟩
      have HR := hide (HR.out.keep zz.below)
      clear k0 k1 k2 k3 k4 k5 k6 k7 k8 k9 k10 k11 k12 d0 s1 s2
      obtain ⟨_, c0, c1⟩ := HR.out.cl (b7) a0_0 a0_1 (by simp)
      obtain ⟨_, c2, c3⟩ := HR.out.cl (b8) a1_0 a1_1 (by simp)
      obtain ⟨_, c4, c5⟩ := HR.out.cl (b9) a2_0 a2_1 (by simp)
      obtain ⟨_, c6, c7⟩ := HR.out.cl (w.heap.size) a0_0 a0_1 (by simp)
      obtain ⟨_, c8, c9⟩ := HR.out.cl (w.heap.size + 1) a1_0 a1_1 (by simp)
      obtain ⟨_, c10, c11⟩ := HR.out.cl (w.heap.size + 1 + 1) a2_0 a2_1 (by simp)
      by_cases h0 : E0 = 0
      · subst h0
        go_wp2_with fail
        refine ((K0 _).out).mono ?_
        rintro e wq2 ⟨rfl, hb⟩
        have HR := hide (HR.out.keep hb)
        clear hb c0 c1 c2 c3 c4 c5 c6 c7 c8 c9 c10 c11
        obtain ⟨_, c0, c1⟩ := HR.out.cl (b7) a0_0 a0_1 (by simp)
        obtain ⟨_, c2, c3⟩ := HR.out.cl (b8) a1_0 a1_1 (by simp)
        obtain ⟨_, c4, c5⟩ := HR.out.cl (b9) a2_0 a2_1 (by simp)
        obtain ⟨_, c6, c7⟩ := HR.out.cl (w.heap.size) a0_0 a0_1 (by simp)
        obtain ⟨_, c8, c9⟩ := HR.out.cl (w.heap.size + 1) a1_0 a1_1 (by simp)
        obtain ⟨_, c10, c11⟩ := HR.out.cl (w.heap.size + 1 + 1) a2_0 a2_1 (by simp)
        by_cases h1 : E1 = 0
        · subst h1
          go_wp2_with fail
          refine ((K1 _).out).mono ?_
          rintro e wq3 ⟨rfl, hb⟩
          have HR := hide (HR.out.keep hb)
          clear hb c0 c1 c2 c3 c4 c5 c6 c7 c8 c9 c10 c11
          obtain ⟨_, c0, c1⟩ := HR.out.cl (b7) a0_0 a0_1 (by simp)
          obtain ⟨_, c2, c3⟩ := HR.out.cl (b8) a1_0 a1_1 (by simp)
          obtain ⟨_, c4, c5⟩ := HR.out.cl (b9) a2_0 a2_1 (by simp)
          obtain ⟨_, c6, c7⟩ := HR.out.cl (w.heap.size) a0_0 a0_1 (by simp)
          obtain ⟨_, c8, c9⟩ := HR.out.cl (w.heap.size + 1) a1_0 a1_1 (by simp)
          obtain ⟨_, c10, c11⟩ := HR.out.cl (w.heap.size + 1 + 1) a2_0 a2_1 (by simp)
          by_cases h2 : E2 = 0
          · subst h2
            go_wp2_with fail
            refine ((K2 _).out).mono ?_
            rintro e wq4 ⟨rfl, hb⟩
            have HR := hide (HR.out.keep hb)
            clear hb c0 c1 c2 c3 c4 c5 c6 c7 c8 c9 c10 c11
            obtain ⟨_, c0, c1⟩ := HR.out.cl (b7) a0_0 a0_1 (by simp)
            obtain ⟨_, c2, c3⟩ := HR.out.cl (b8) a1_0 a1_1 (by simp)
            obtain ⟨_, c4, c5⟩ := HR.out.cl (b9) a2_0 a2_1 (by simp)
            obtain ⟨_, c6, c7⟩ := HR.out.cl (w.heap.size) a0_0 a0_1 (by simp)
            obtain ⟨_, c8, c9⟩ := HR.out.cl (w.heap.size + 1) a1_0 a1_1 (by simp)
            obtain ⟨_, c10, c11⟩ := HR.out.cl (w.heap.size + 1 + 1) a2_0 a2_1 (by simp)
            by_cases p1 : C1 ≤ 0
            · by_cases p2 : C2 ≤ 0
              · have p3 : ¬ 0 < C3 := by have := FT.out (by first | rfl | trivial) (by first | rfl | trivial) (by first | rfl | trivial) p1 p2; omega
                go_wp2_with fail
                refine ((CP01 _).out).mono ?_
                rintro e wq5 ⟨rfl, hb⟩
                have HR := hide (HR.out.keep hb)
                clear hb c0 c1 c2 c3 c4 c5 c6 c7 c8 c9 c10 c11
                obtain ⟨_, c0, c1⟩ := HR.out.cl (b7) a0_0 a0_1 (by simp)
                obtain ⟨_, c2, c3⟩ := HR.out.cl (b8) a1_0 a1_1 (by simp)
                obtain ⟨_, c4, c5⟩ := HR.out.cl (b9) a2_0 a2_1 (by simp)
                obtain ⟨_, c6, c7⟩ := HR.out.cl (w.heap.size) a0_0 a0_1 (by simp)
                obtain ⟨_, c8, c9⟩ := HR.out.cl (w.heap.size + 1) a1_0 a1_1 (by simp)
                obtain ⟨_, c10, c11⟩ := HR.out.cl (w.heap.size + 1 + 1) a2_0 a2_1 (by simp)
                go_wp2_with fail
                refine ((CP12 _).out).mono ?_
                rintro e wq6 ⟨rfl, hb⟩
                have HR := hide (HR.out.keep hb)
                clear hb c0 c1 c2 c3 c4 c5 c6 c7 c8 c9 c10 c11
                obtain ⟨_, c0, c1⟩ := HR.out.cl (b7) a0_0 a0_1 (by simp)
                obtain ⟨_, c2, c3⟩ := HR.out.cl (b8) a1_0 a1_1 (by simp)
                obtain ⟨_, c4, c5⟩ := HR.out.cl (b9) a2_0 a2_1 (by simp)
                obtain ⟨_, c6, c7⟩ := HR.out.cl (w.heap.size) a0_0 a0_1 (by simp)
                obtain ⟨_, c8, c9⟩ := HR.out.cl (w.heap.size + 1) a1_0 a1_1 (by simp)
                obtain ⟨_, c10, c11⟩ := HR.out.cl (w.heap.size + 1 + 1) a2_0 a2_1 (by simp)
                go_wp2_with fail
                refine ((CP02 _).out).mono ?_
                rintro e wq7 ⟨rfl, hb⟩
                have HR := hide (HR.out.keep hb)
                clear hb c0 c1 c2 c3 c4 c5 c6 c7 c8 c9 c10 c11
                obtain ⟨_, c0, c1⟩ := HR.out.cl (b7) a0_0 a0_1 (by simp)
                obtain ⟨_, c2, c3⟩ := HR.out.cl (b8) a1_0 a1_1 (by simp)
                obtain ⟨_, c4, c5⟩ := HR.out.cl (b9) a2_0 a2_1 (by simp)
                obtain ⟨_, c6, c7⟩ := HR.out.cl (w.heap.size) a0_0 a0_1 (by simp)
                obtain ⟨_, c8, c9⟩ := HR.out.cl (w.heap.size + 1) a1_0 a1_1 (by simp)
                obtain ⟨_, c10, c11⟩ := HR.out.cl (w.heap.size + 1 + 1) a2_0 a2_1 (by simp)
                by_cases hz : C1 = 0
                · obtain ⟨g1, g2⟩ := (FZ.out (by first | rfl | trivial) (by first | rfl | trivial)).1 hz
                  have q0 := beq_iff_eq.2 hz
                  have q1 := beq_iff_eq.2 g1
                  have q2 := beq_iff_eq.2 g2
                  clear hz g1 g2
                  go_upto_region 12 with fail
                  clear c0 c1 c2 c3 c4 c5 c6 c7 c8 c9 c10 c11
                  have k0 : ∀ z : Sub wq7, z.val.cell? ⟨b7, 0, none⟩ = some (Value.int .i64 a0_0) := fun z => (((HR.out.keep z.below).cl (b7) a0_0 a0_1 (by simp)).2.1)
                  have k1 : ∀ z : Sub wq7, z.val.cell? ⟨b7, 1, none⟩ = some (Value.int .i64 a0_1) := fun z => (((HR.out.keep z.below).cl (b7) a0_0 a0_1 (by simp)).2.2)
                  have k2 : ∀ z : Sub wq7, z.val.cell? ⟨b8, 0, none⟩ = some (Value.int .i64 a1_0) := fun z => (((HR.out.keep z.below).cl (b8) a1_0 a1_1 (by simp)).2.1)
                  have k3 : ∀ z : Sub wq7, z.val.cell? ⟨b8, 1, none⟩ = some (Value.int .i64 a1_1) := fun z => (((HR.out.keep z.below).cl (b8) a1_0 a1_1 (by simp)).2.2)
                  have k4 : ∀ z : Sub wq7, z.val.cell? ⟨b9, 0, none⟩ = some (Value.int .i64 a2_0) := fun z => (((HR.out.keep z.below).cl (b9) a2_0 a2_1 (by simp)).2.1)
                  have k5 : ∀ z : Sub wq7, z.val.cell? ⟨b9, 1, none⟩ = some (Value.int .i64 a2_1) := fun z => (((HR.out.keep z.below).cl (b9) a2_0 a2_1 (by simp)).2.2)
                  have k6 : ∀ z : Sub wq7, z.val.cell? ⟨w.heap.size, 0, none⟩ = some (Value.int .i64 a0_0) := fun z => (((HR.out.keep z.below).cl (w.heap.size) a0_0 a0_1 (by simp)).2.1)
                  have k7 : ∀ z : Sub wq7, z.val.cell? ⟨w.heap.size, 1, none⟩ = some (Value.int .i64 a0_1) := fun z => (((HR.out.keep z.below).cl (w.heap.size) a0_0 a0_1 (by simp)).2.2)
                  have k8 : ∀ z : Sub wq7, z.val.cell? ⟨w.heap.size + 1, 0, none⟩ = some (Value.int .i64 a1_0) := fun z => (((HR.out.keep z.below).cl (w.heap.size + 1) a1_0 a1_1 (by simp)).2.1)
                  have k9 : ∀ z : Sub wq7, z.val.cell? ⟨w.heap.size + 1, 1, none⟩ = some (Value.int .i64 a1_1) := fun z => (((HR.out.keep z.below).cl (w.heap.size + 1) a1_0 a1_1 (by simp)).2.2)
                  have k10 : ∀ z : Sub wq7, z.val.cell? ⟨w.heap.size + 1 + 1, 0, none⟩ = some (Value.int .i64 a2_0) := fun z => (((HR.out.keep z.below).cl (w.heap.size + 1 + 1) a2_0 a2_1 (by simp)).2.1)
                  have k11 : ∀ z : Sub wq7, z.val.cell? ⟨w.heap.size + 1 + 1, 1, none⟩ = some (Value.int .i64 a2_1) := fun z => (((HR.out.keep z.below).cl (w.heap.size + 1 + 1) a2_0 a2_1 (by simp)).2.2)
                  have KT : ∀ y : Sub wq7, Hid (Tabs y.val) := fun y => hide (HT.out.keep (HR.out.below.trans (y.below.mono HR.out.below.size)))
                  refine wp_region_sub (w0 := wq7) (by kernel_rfl) (by kernel_rfl) (Below.refl _ _).drew ?_
                  repeat (first | go_big_quiet_step ((first | (go_at_call 21; with_reducible exact sub_of _ (CP01 _).out) | (go_at_call 16; exact sub_of _ (K _ (KT _).out).out))) | quiet_step ((first | (go_at_call 21; with_reducible exact sub_of _ (CP01 _).out) | (go_at_call 16; exact sub_of _ (K _ (KT _).out).out))))
                  refine wpQuiet_nil ?_
                  rintro _ ⟨y, rfl⟩
                  go_wp2_with fail
                  go_ret
                  exact ⟨rfl, HR.out.below.trans (y.below.mono HR.out.below.size)⟩
                · have q0 : (C1 == 0) = false := by simpa using hz
                  have hn := fun h => hz ((FZ.out (by first | rfl | trivial) (by first | rfl | trivial)).2 h)
                  by_cases g1 : a0_0 = a1_0
                  · have q2 : (a0_1 == a1_1) = false := by simpa using fun h => hn ⟨g1, h⟩
                    have q1 := beq_iff_eq.2 g1
                    clear hz g1 hn
                    go_upto_region 12 with fail
                    clear c0 c1 c2 c3 c4 c5 c6 c7 c8 c9 c10 c11
                    have k0 : ∀ z : Sub wq7, z.val.cell? ⟨b7, 0, none⟩ = some (Value.int .i64 a0_0) := fun z => (((HR.out.keep z.below).cl (b7) a0_0 a0_1 (by simp)).2.1)
                    have k1 : ∀ z : Sub wq7, z.val.cell? ⟨b7, 1, none⟩ = some (Value.int .i64 a0_1) := fun z => (((HR.out.keep z.below).cl (b7) a0_0 a0_1 (by simp)).2.2)
                    have k2 : ∀ z : Sub wq7, z.val.cell? ⟨b8, 0, none⟩ = some (Value.int .i64 a1_0) := fun z => (((HR.out.keep z.below).cl (b8) a1_0 a1_1 (by simp)).2.1)
                    have k3 : ∀ z : Sub wq7, z.val.cell? ⟨b8, 1, none⟩ = some (Value.int .i64 a1_1) := fun z => (((HR.out.keep z.below).cl (b8) a1_0 a1_1 (by simp)).2.2)
                    have k4 : ∀ z : Sub wq7, z.val.cell? ⟨b9, 0, none⟩ = some (Value.int .i64 a2_0) := fun z => (((HR.out.keep z.below).cl (b9) a2_0 a2_1 (by simp)).2.1)
                    have k5 : ∀ z : Sub wq7, z.val.cell? ⟨b9, 1, none⟩ = some (Value.int .i64 a2_1) := fun z => (((HR.out.keep z.below).cl (b9) a2_0 a2_1 (by simp)).2.2)
                    have k6 : ∀ z : Sub wq7, z.val.cell? ⟨w.heap.size, 0, none⟩ = some (Value.int .i64 a0_0) := fun z => (((HR.out.keep z.below).cl (w.heap.size) a0_0 a0_1 (by simp)).2.1)
                    have k7 : ∀ z : Sub wq7, z.val.cell? ⟨w.heap.size, 1, none⟩ = some (Value.int .i64 a0_1) := fun z => (((HR.out.keep z.below).cl (w.heap.size) a0_0 a0_1 (by simp)).2.2)
                    have k8 : ∀ z : Sub wq7, z.val.cell? ⟨w.heap.size + 1, 0, none⟩ = some (Value.int .i64 a1_0) := fun z => (((HR.out.keep z.below).cl (w.heap.size + 1) a1_0 a1_1 (by simp)).2.1)
                    have k9 : ∀ z : Sub wq7, z.val.cell? ⟨w.heap.size + 1, 1, none⟩ = some (Value.int .i64 a1_1) := fun z => (((HR.out.keep z.below).cl (w.heap.size + 1) a1_0 a1_1 (by simp)).2.2)
                    have k10 : ∀ z : Sub wq7, z.val.cell? ⟨w.heap.size + 1 + 1, 0, none⟩ = some (Value.int .i64 a2_0) := fun z => (((HR.out.keep z.below).cl (w.heap.size + 1 + 1) a2_0 a2_1 (by simp)).2.1)
                    have k11 : ∀ z : Sub wq7, z.val.cell? ⟨w.heap.size + 1 + 1, 1, none⟩ = some (Value.int .i64 a2_1) := fun z => (((HR.out.keep z.below).cl (w.heap.size + 1 + 1) a2_0 a2_1 (by simp)).2.2)
                    have KT : ∀ y : Sub wq7, Hid (Tabs y.val) := fun y => hide (HT.out.keep (HR.out.below.trans (y.below.mono HR.out.below.size)))
                    refine wp_region_sub (w0 := wq7) (by kernel_rfl) (by kernel_rfl) (Below.refl _ _).drew ?_
                    repeat (first | go_big_quiet_step ((first | (go_at_call 21; with_reducible exact sub_of _ (CP01 _).out) | (go_at_call 16; exact sub_of _ (K _ (KT _).out).out))) | quiet_step ((first | (go_at_call 21; with_reducible exact sub_of _ (CP01 _).out) | (go_at_call 16; exact sub_of _ (K _ (KT _).out).out))))
                    refine wpQuiet_nil ?_
                    rintro _ ⟨y, rfl⟩
                    go_wp2_with fail
                    go_ret
                    exact ⟨rfl, HR.out.below.trans (y.below.mono HR.out.below.size)⟩
                  · have q1 : (a0_0 == a1_0) = false := by simpa using g1
                    clear hz g1 hn
                    go_upto_region 12 with fail
                    clear c0 c1 c2 c3 c4 c5 c6 c7 c8 c9 c10 c11
                    have k0 : ∀ z : Sub wq7, z.val.cell? ⟨b7, 0, none⟩ = some (Value.int .i64 a0_0) := fun z => (((HR.out.keep z.below).cl (b7) a0_0 a0_1 (by simp)).2.1)
                    have k1 : ∀ z : Sub wq7, z.val.cell? ⟨b7, 1, none⟩ = some (Value.int .i64 a0_1) := fun z => (((HR.out.keep z.below).cl (b7) a0_0 a0_1 (by simp)).2.2)
                    have k2 : ∀ z : Sub wq7, z.val.cell? ⟨b8, 0, none⟩ = some (Value.int .i64 a1_0) := fun z => (((HR.out.keep z.below).cl (b8) a1_0 a1_1 (by simp)).2.1)
                    have k3 : ∀ z : Sub wq7, z.val.cell? ⟨b8, 1, none⟩ = some (Value.int .i64 a1_1) := fun z => (((HR.out.keep z.below).cl (b8) a1_0 a1_1 (by simp)).2.2)
                    have k4 : ∀ z : Sub wq7, z.val.cell? ⟨b9, 0, none⟩ = some (Value.int .i64 a2_0) := fun z => (((HR.out.keep z.below).cl (b9) a2_0 a2_1 (by simp)).2.1)
                    have k5 : ∀ z : Sub wq7, z.val.cell? ⟨b9, 1, none⟩ = some (Value.int .i64 a2_1) := fun z => (((HR.out.keep z.below).cl (b9) a2_0 a2_1 (by simp)).2.2)
                    have k6 : ∀ z : Sub wq7, z.val.cell? ⟨w.heap.size, 0, none⟩ = some (Value.int .i64 a0_0) := fun z => (((HR.out.keep z.below).cl (w.heap.size) a0_0 a0_1 (by simp)).2.1)
                    have k7 : ∀ z : Sub wq7, z.val.cell? ⟨w.heap.size, 1, none⟩ = some (Value.int .i64 a0_1) := fun z => (((HR.out.keep z.below).cl (w.heap.size) a0_0 a0_1 (by simp)).2.2)
                    have k8 : ∀ z : Sub wq7, z.val.cell? ⟨w.heap.size + 1, 0, none⟩ = some (Value.int .i64 a1_0) := fun z => (((HR.out.keep z.below).cl (w.heap.size + 1) a1_0 a1_1 (by simp)).2.1)
                    have k9 : ∀ z : Sub wq7, z.val.cell? ⟨w.heap.size + 1, 1, none⟩ = some (Value.int .i64 a1_1) := fun z => (((HR.out.keep z.below).cl (w.heap.size + 1) a1_0 a1_1 (by simp)).2.2)
                    have k10 : ∀ z : Sub wq7, z.val.cell? ⟨w.heap.size + 1 + 1, 0, none⟩ = some (Value.int .i64 a2_0) := fun z => (((HR.out.keep z.below).cl (w.heap.size + 1 + 1) a2_0 a2_1 (by simp)).2.1)
                    have k11 : ∀ z : Sub wq7, z.val.cell? ⟨w.heap.size + 1 + 1, 1, none⟩ = some (Value.int .i64 a2_1) := fun z => (((HR.out.keep z.below).cl (w.heap.size + 1 + 1) a2_0 a2_1 (by simp)).2.2)
                    have KT : ∀ y : Sub wq7, Hid (Tabs y.val) := fun y => hide (HT.out.keep (HR.out.below.trans (y.below.mono HR.out.below.size)))
                    refine wp_region_sub (w0 := wq7) (by kernel_rfl) (by kernel_rfl) (Below.refl _ _).drew ?_
                    repeat (first | go_big_quiet_step ((first | (go_at_call 21; with_reducible exact sub_of _ (CP01 _).out) | (go_at_call 16; exact sub_of _ (K _ (KT _).out).out))) | quiet_step ((first | (go_at_call 21; with_reducible exact sub_of _ (CP01 _).out) | (go_at_call 16; exact sub_of _ (K _ (KT _).out).out))))
                    refine wpQuiet_nil ?_
                    rintro _ ⟨y, rfl⟩
                    go_wp2_with fail
                    go_ret
                    exact ⟨rfl, HR.out.below.trans (y.below.mono HR.out.below.size)⟩
              · skip
                go_wp2_with fail
                refine ((CP01 _).out).mono ?_
                rintro e wq8 ⟨rfl, hb⟩
                have HR := hide (HR.out.keep hb)
                clear hb c0 c1 c2 c3 c4 c5 c6 c7 c8 c9 c10 c11
                obtain ⟨_, c0, c1⟩ := HR.out.cl (b7) a0_0 a0_1 (by simp)
                obtain ⟨_, c2, c3⟩ := HR.out.cl (b8) a1_0 a1_1 (by simp)
                obtain ⟨_, c4, c5⟩ := HR.out.cl (b9) a2_0 a2_1 (by simp)
                obtain ⟨_, c6, c7⟩ := HR.out.cl (w.heap.size) a0_0 a0_1 (by simp)
                obtain ⟨_, c8, c9⟩ := HR.out.cl (w.heap.size + 1) a1_0 a1_1 (by simp)
                obtain ⟨_, c10, c11⟩ := HR.out.cl (w.heap.size + 1 + 1) a2_0 a2_1 (by simp)
                go_wp2_with fail
                refine ((CP12 _).out).mono ?_
                rintro e wq9 ⟨rfl, hb⟩
                have HR := hide (HR.out.keep hb)
                clear hb c0 c1 c2 c3 c4 c5 c6 c7 c8 c9 c10 c11
                obtain ⟨_, c0, c1⟩ := HR.out.cl (b7) a0_0 a0_1 (by simp)
                obtain ⟨_, c2, c3⟩ := HR.out.cl (b8) a1_0 a1_1 (by simp)
                obtain ⟨_, c4, c5⟩ := HR.out.cl (b9) a2_0 a2_1 (by simp)
                obtain ⟨_, c6, c7⟩ := HR.out.cl (w.heap.size) a0_0 a0_1 (by simp)
                obtain ⟨_, c8, c9⟩ := HR.out.cl (w.heap.size + 1) a1_0 a1_1 (by simp)
                obtain ⟨_, c10, c11⟩ := HR.out.cl (w.heap.size + 1 + 1) a2_0 a2_1 (by simp)
                by_cases hz : C1 = 0
                · obtain ⟨g1, g2⟩ := (FZ.out (by first | rfl | trivial) (by first | rfl | trivial)).1 hz
                  have q0 := beq_iff_eq.2 hz
                  have q1 := beq_iff_eq.2 g1
                  have q2 := beq_iff_eq.2 g2
                  clear hz g1 g2
                  go_upto_region 12 with fail
                  clear c0 c1 c2 c3 c4 c5 c6 c7 c8 c9 c10 c11
                  have k0 : ∀ z : Sub wq9, z.val.cell? ⟨b7, 0, none⟩ = some (Value.int .i64 a0_0) := fun z => (((HR.out.keep z.below).cl (b7) a0_0 a0_1 (by simp)).2.1)
                  have k1 : ∀ z : Sub wq9, z.val.cell? ⟨b7, 1, none⟩ = some (Value.int .i64 a0_1) := fun z => (((HR.out.keep z.below).cl (b7) a0_0 a0_1 (by simp)).2.2)
                  have k2 : ∀ z : Sub wq9, z.val.cell? ⟨b8, 0, none⟩ = some (Value.int .i64 a1_0) := fun z => (((HR.out.keep z.below).cl (b8) a1_0 a1_1 (by simp)).2.1)
                  have k3 : ∀ z : Sub wq9, z.val.cell? ⟨b8, 1, none⟩ = some (Value.int .i64 a1_1) := fun z => (((HR.out.keep z.below).cl (b8) a1_0 a1_1 (by simp)).2.2)
                  have k4 : ∀ z : Sub wq9, z.val.cell? ⟨b9, 0, none⟩ = some (Value.int .i64 a2_0) := fun z => (((HR.out.keep z.below).cl (b9) a2_0 a2_1 (by simp)).2.1)
                  have k5 : ∀ z : Sub wq9, z.val.cell? ⟨b9, 1, none⟩ = some (Value.int .i64 a2_1) := fun z => (((HR.out.keep z.below).cl (b9) a2_0 a2_1 (by simp)).2.2)
                  have k6 : ∀ z : Sub wq9, z.val.cell? ⟨w.heap.size, 0, none⟩ = some (Value.int .i64 a0_0) := fun z => (((HR.out.keep z.below).cl (w.heap.size) a0_0 a0_1 (by simp)).2.1)
                  have k7 : ∀ z : Sub wq9, z.val.cell? ⟨w.heap.size, 1, none⟩ = some (Value.int .i64 a0_1) := fun z => (((HR.out.keep z.below).cl (w.heap.size) a0_0 a0_1 (by simp)).2.2)
                  have k8 : ∀ z : Sub wq9, z.val.cell? ⟨w.heap.size + 1, 0, none⟩ = some (Value.int .i64 a1_0) := fun z => (((HR.out.keep z.below).cl (w.heap.size + 1) a1_0 a1_1 (by simp)).2.1)
                  have k9 : ∀ z : Sub wq9, z.val.cell? ⟨w.heap.size + 1, 1, none⟩ = some (Value.int .i64 a1_1) := fun z => (((HR.out.keep z.below).cl (w.heap.size + 1) a1_0 a1_1 (by simp)).2.2)
                  have k10 : ∀ z : Sub wq9, z.val.cell? ⟨w.heap.size + 1 + 1, 0, none⟩ = some (Value.int .i64 a2_0) := fun z => (((HR.out.keep z.below).cl (w.heap.size + 1 + 1) a2_0 a2_1 (by simp)).2.1)
                  have k11 : ∀ z : Sub wq9, z.val.cell? ⟨w.heap.size + 1 + 1, 1, none⟩ = some (Value.int .i64 a2_1) := fun z => (((HR.out.keep z.below).cl (w.heap.size + 1 + 1) a2_0 a2_1 (by simp)).2.2)
                  have KT : ∀ y : Sub wq9, Hid (Tabs y.val) := fun y => hide (HT.out.keep (HR.out.below.trans (y.below.mono HR.out.below.size)))
                  refine wp_region_sub (w0 := wq9) (by kernel_rfl) (by kernel_rfl) (Below.refl _ _).drew ?_
                  repeat (first | go_big_quiet_step ((first | (go_at_call 21; with_reducible exact sub_of _ (CP01 _).out) | (go_at_call 16; exact sub_of _ (K _ (KT _).out).out))) | quiet_step ((first | (go_at_call 21; with_reducible exact sub_of _ (CP01 _).out) | (go_at_call 16; exact sub_of _ (K _ (KT _).out).out))))
                  refine wpQuiet_nil ?_
                  rintro _ ⟨y, rfl⟩
                  go_wp2_with fail
                  go_ret
                  exact ⟨rfl, HR.out.below.trans (y.below.mono HR.out.below.size)⟩
                · have q0 : (C1 == 0) = false := by simpa using hz
                  have hn := fun h => hz ((FZ.out (by first | rfl | trivial) (by first | rfl | trivial)).2 h)
                  by_cases g1 : a0_0 = a1_0
                  · have q2 : (a0_1 == a1_1) = false := by simpa using fun h => hn ⟨g1, h⟩
                    have q1 := beq_iff_eq.2 g1
                    clear hz g1 hn
                    go_upto_region 12 with fail
                    clear c0 c1 c2 c3 c4 c5 c6 c7 c8 c9 c10 c11
                    have k0 : ∀ z : Sub wq9, z.val.cell? ⟨b7, 0, none⟩ = some (Value.int .i64 a0_0) := fun z => (((HR.out.keep z.below).cl (b7) a0_0 a0_1 (by simp)).2.1)
                    have k1 : ∀ z : Sub wq9, z.val.cell? ⟨b7, 1, none⟩ = some (Value.int .i64 a0_1) := fun z => (((HR.out.keep z.below).cl (b7) a0_0 a0_1 (by simp)).2.2)
                    have k2 : ∀ z : Sub wq9, z.val.cell? ⟨b8, 0, none⟩ = some (Value.int .i64 a1_0) := fun z => (((HR.out.keep z.below).cl (b8) a1_0 a1_1 (by simp)).2.1)
                    have k3 : ∀ z : Sub wq9, z.val.cell? ⟨b8, 1, none⟩ = some (Value.int .i64 a1_1) := fun z => (((HR.out.keep z.below).cl (b8) a1_0 a1_1 (by simp)).2.2)
                    have k4 : ∀ z : Sub wq9, z.val.cell? ⟨b9, 0, none⟩ = some (Value.int .i64 a2_0) := fun z => (((HR.out.keep z.below).cl (b9) a2_0 a2_1 (by simp)).2.1)
                    have k5 : ∀ z : Sub wq9, z.val.cell? ⟨b9, 1, none⟩ = some (Value.int .i64 a2_1) := fun z => (((HR.out.keep z.below).cl (b9) a2_0 a2_1 (by simp)).2.2)
                    have k6 : ∀ z : Sub wq9, z.val.cell? ⟨w.heap.size, 0, none⟩ = some (Value.int .i64 a0_0) := fun z => (((HR.out.keep z.below).cl (w.heap.size) a0_0 a0_1 (by simp)).2.1)
                    have k7 : ∀ z : Sub wq9, z.val.cell? ⟨w.heap.size, 1, none⟩ = some (Value.int .i64 a0_1) := fun z => (((HR.out.keep z.below).cl (w.heap.size) a0_0 a0_1 (by simp)).2.2)
                    have k8 : ∀ z : Sub wq9, z.val.cell? ⟨w.heap.size + 1, 0, none⟩ = some (Value.int .i64 a1_0) := fun z => (((HR.out.keep z.below).cl (w.heap.size + 1) a1_0 a1_1 (by simp)).2.1)
                    have k9 : ∀ z : Sub wq9, z.val.cell? ⟨w.heap.size + 1, 1, none⟩ = some (Value.int .i64 a1_1) := fun z => (((HR.out.keep z.below).cl (w.heap.size + 1) a1_0 a1_1 (by simp)).2.2)
                    have k10 : ∀ z : Sub wq9, z.val.cell? ⟨w.heap.size + 1 + 1, 0, none⟩ = some (Value.int .i64 a2_0) := fun z => (((HR.out.keep z.below).cl (w.heap.size + 1 + 1) a2_0 a2_1 (by simp)).2.1)
                    have k11 : ∀ z : Sub wq9, z.val.cell? ⟨w.heap.size + 1 + 1, 1, none⟩ = some (Value.int .i64 a2_1) := fun z => (((HR.out.keep z.below).cl (w.heap.size + 1 + 1) a2_0 a2_1 (by simp)).2.2)
                    have KT : ∀ y : Sub wq9, Hid (Tabs y.val) := fun y => hide (HT.out.keep (HR.out.below.trans (y.below.mono HR.out.below.size)))
                    refine wp_region_sub (w0 := wq9) (by kernel_rfl) (by kernel_rfl) (Below.refl _ _).drew ?_
                    repeat (first | go_big_quiet_step ((first | (go_at_call 21; with_reducible exact sub_of _ (CP01 _).out) | (go_at_call 16; exact sub_of _ (K _ (KT _).out).out))) | quiet_step ((first | (go_at_call 21; with_reducible exact sub_of _ (CP01 _).out) | (go_at_call 16; exact sub_of _ (K _ (KT _).out).out))))
                    refine wpQuiet_nil ?_
                    rintro _ ⟨y, rfl⟩
                    go_wp2_with fail
                    go_ret
                    exact ⟨rfl, HR.out.below.trans (y.below.mono HR.out.below.size)⟩
                  · have q1 : (a0_0 == a1_0) = false := by simpa using g1
                    clear hz g1 hn
                    go_upto_region 12 with fail
                    clear c0 c1 c2 c3 c4 c5 c6 c7 c8 c9 c10 c11
                    have k0 : ∀ z : Sub wq9, z.val.cell? ⟨b7, 0, none⟩ = some (Value.int .i64 a0_0) := fun z => (((HR.out.keep z.below).cl (b7) a0_0 a0_1 (by simp)).2.1)
                    have k1 : ∀ z : Sub wq9, z.val.cell? ⟨b7, 1, none⟩ = some (Value.int .i64 a0_1) := fun z => (((HR.out.keep z.below).cl (b7) a0_0 a0_1 (by simp)).2.2)
                    have k2 : ∀ z : Sub wq9, z.val.cell? ⟨b8, 0, none⟩ = some (Value.int .i64 a1_0) := fun z => (((HR.out.keep z.below).cl (b8) a1_0 a1_1 (by simp)).2.1)
                    have k3 : ∀ z : Sub wq9, z.val.cell? ⟨b8, 1, none⟩ = some (Value.int .i64 a1_1) := fun z => (((HR.out.keep z.below).cl (b8) a1_0 a1_1 (by simp)).2.2)
                    have k4 : ∀ z : Sub wq9, z.val.cell? ⟨b9, 0, none⟩ = some (Value.int .i64 a2_0) := fun z => (((HR.out.keep z.below).cl (b9) a2_0 a2_1 (by simp)).2.1)
                    have k5 : ∀ z : Sub wq9, z.val.cell? ⟨b9, 1, none⟩ = some (Value.int .i64 a2_1) := fun z => (((HR.out.keep z.below).cl (b9) a2_0 a2_1 (by simp)).2.2)
                    have k6 : ∀ z : Sub wq9, z.val.cell? ⟨w.heap.size, 0, none⟩ = some (Value.int .i64 a0_0) := fun z => (((HR.out.keep z.below).cl (w.heap.size) a0_0 a0_1 (by simp)).2.1)
                    have k7 : ∀ z : Sub wq9, z.val.cell? ⟨w.heap.size, 1, none⟩ = some (Value.int .i64 a0_1) := fun z => (((HR.out.keep z.below).cl (w.heap.size) a0_0 a0_1 (by simp)).2.2)
                    have k8 : ∀ z : Sub wq9, z.val.cell? ⟨w.heap.size + 1, 0, none⟩ = some (Value.int .i64 a1_0) := fun z => (((HR.out.keep z.below).cl (w.heap.size + 1) a1_0 a1_1 (by simp)).2.1)
                    have k9 : ∀ z : Sub wq9, z.val.cell? ⟨w.heap.size + 1, 1, none⟩ = some (Value.int .i64 a1_1) := fun z => (((HR.out.keep z.below).cl (w.heap.size + 1) a1_0 a1_1 (by simp)).2.2)
                    have k10 : ∀ z : Sub wq9, z.val.cell? ⟨w.heap.size + 1 + 1, 0, none⟩ = some (Value.int .i64 a2_0) := fun z => (((HR.out.keep z.below).cl (w.heap.size + 1 + 1) a2_0 a2_1 (by simp)).2.1)
                    have k11 : ∀ z : Sub wq9, z.val.cell? ⟨w.heap.size + 1 + 1, 1, none⟩ = some (Value.int .i64 a2_1) := fun z => (((HR.out.keep z.below).cl (w.heap.size + 1 + 1) a2_0 a2_1 (by simp)).2.2)
                    have KT : ∀ y : Sub wq9, Hid (Tabs y.val) := fun y => hide (HT.out.keep (HR.out.below.trans (y.below.mono HR.out.below.size)))
                    refine wp_region_sub (w0 := wq9) (by kernel_rfl) (by kernel_rfl) (Below.refl _ _).drew ?_
                    repeat (first | go_big_quiet_step ((first | (go_at_call 21; with_reducible exact sub_of _ (CP01 _).out) | (go_at_call 16; exact sub_of _ (K _ (KT _).out).out))) | quiet_step ((first | (go_at_call 21; with_reducible exact sub_of _ (CP01 _).out) | (go_at_call 16; exact sub_of _ (K _ (KT _).out).out))))
                    refine wpQuiet_nil ?_
                    rintro _ ⟨y, rfl⟩
                    go_wp2_with fail
                    go_ret
                    exact ⟨rfl, HR.out.below.trans (y.below.mono HR.out.below.size)⟩
            · skip
              go_wp2_with fail
              refine ((CP01 _).out).mono ?_
              rintro e wq10 ⟨rfl, hb⟩
              have HR := hide (HR.out.keep hb)
              clear hb c0 c1 c2 c3 c4 c5 c6 c7 c8 c9 c10 c11
              obtain ⟨_, c0, c1⟩ := HR.out.cl (b7) a0_0 a0_1 (by simp)
              obtain ⟨_, c2, c3⟩ := HR.out.cl (b8) a1_0 a1_1 (by simp)
              obtain ⟨_, c4, c5⟩ := HR.out.cl (b9) a2_0 a2_1 (by simp)
              obtain ⟨_, c6, c7⟩ := HR.out.cl (w.heap.size) a0_0 a0_1 (by simp)
              obtain ⟨_, c8, c9⟩ := HR.out.cl (w.heap.size + 1) a1_0 a1_1 (by simp)
              obtain ⟨_, c10, c11⟩ := HR.out.cl (w.heap.size + 1 + 1) a2_0 a2_1 (by simp)
              by_cases hz : C1 = 0
              · obtain ⟨g1, g2⟩ := (FZ.out (by first | rfl | trivial) (by first | rfl | trivial)).1 hz
                have q0 := beq_iff_eq.2 hz
                have q1 := beq_iff_eq.2 g1
                have q2 := beq_iff_eq.2 g2
                clear hz g1 g2
                go_upto_region 12 with fail
                clear c0 c1 c2 c3 c4 c5 c6 c7 c8 c9 c10 c11
                have k0 : ∀ z : Sub wq10, z.val.cell? ⟨b7, 0, none⟩ = some (Value.int .i64 a0_0) := fun z => (((HR.out.keep z.below).cl (b7) a0_0 a0_1 (by simp)).2.1)
                have k1 : ∀ z : Sub wq10, z.val.cell? ⟨b7, 1, none⟩ = some (Value.int .i64 a0_1) := fun z => (((HR.out.keep z.below).cl (b7) a0_0 a0_1 (by simp)).2.2)
                have k2 : ∀ z : Sub wq10, z.val.cell? ⟨b8, 0, none⟩ = some (Value.int .i64 a1_0) := fun z => (((HR.out.keep z.below).cl (b8) a1_0 a1_1 (by simp)).2.1)
                have k3 : ∀ z : Sub wq10, z.val.cell? ⟨b8, 1, none⟩ = some (Value.int .i64 a1_1) := fun z => (((HR.out.keep z.below).cl (b8) a1_0 a1_1 (by simp)).2.2)
                have k4 : ∀ z : Sub wq10, z.val.cell? ⟨b9, 0, none⟩ = some (Value.int .i64 a2_0) := fun z => (((HR.out.keep z.below).cl (b9) a2_0 a2_1 (by simp)).2.1)
                have k5 : ∀ z : Sub wq10, z.val.cell? ⟨b9, 1, none⟩ = some (Value.int .i64 a2_1) := fun z => (((HR.out.keep z.below).cl (b9) a2_0 a2_1 (by simp)).2.2)
                have k6 : ∀ z : Sub wq10, z.val.cell? ⟨w.heap.size, 0, none⟩ = some (Value.int .i64 a0_0) := fun z => (((HR.out.keep z.below).cl (w.heap.size) a0_0 a0_1 (by simp)).2.1)
                have k7 : ∀ z : Sub wq10, z.val.cell? ⟨w.heap.size, 1, none⟩ = some (Value.int .i64 a0_1) := fun z => (((HR.out.keep z.below).cl (w.heap.size) a0_0 a0_1 (by simp)).2.2)
                have k8 : ∀ z : Sub wq10, z.val.cell? ⟨w.heap.size + 1, 0, none⟩ = some (Value.int .i64 a1_0) := fun z => (((HR.out.keep z.below).cl (w.heap.size + 1) a1_0 a1_1 (by simp)).2.1)
                have k9 : ∀ z : Sub wq10, z.val.cell? ⟨w.heap.size + 1, 1, none⟩ = some (Value.int .i64 a1_1) := fun z => (((HR.out.keep z.below).cl (w.heap.size + 1) a1_0 a1_1 (by simp)).2.2)
                have k10 : ∀ z : Sub wq10, z.val.cell? ⟨w.heap.size + 1 + 1, 0, none⟩ = some (Value.int .i64 a2_0) := fun z => (((HR.out.keep z.below).cl (w.heap.size + 1 + 1) a2_0 a2_1 (by simp)).2.1)
                have k11 : ∀ z : Sub wq10, z.val.cell? ⟨w.heap.size + 1 + 1, 1, none⟩ = some (Value.int .i64 a2_1) := fun z => (((HR.out.keep z.below).cl (w.heap.size + 1 + 1) a2_0 a2_1 (by simp)).2.2)
                have KT : ∀ y : Sub wq10, Hid (Tabs y.val) := fun y => hide (HT.out.keep (HR.out.below.trans (y.below.mono HR.out.below.size)))
                refine wp_region_sub (w0 := wq10) (by kernel_rfl) (by kernel_rfl) (Below.refl _ _).drew ?_
                repeat (first | go_big_quiet_step ((first | (go_at_call 21; with_reducible exact sub_of _ (CP01 _).out) | (go_at_call 16; exact sub_of _ (K _ (KT _).out).out))) | quiet_step ((first | (go_at_call 21; with_reducible exact sub_of _ (CP01 _).out) | (go_at_call 16; exact sub_of _ (K _ (KT _).out).out))))
                refine wpQuiet_nil ?_
                rintro _ ⟨y, rfl⟩
                go_wp2_with fail
                go_ret
                exact ⟨rfl, HR.out.below.trans (y.below.mono HR.out.below.size)⟩
              · have q0 : (C1 == 0) = false := by simpa using hz
                have hn := fun h => hz ((FZ.out (by first | rfl | trivial) (by first | rfl | trivial)).2 h)
                by_cases g1 : a0_0 = a1_0
                · have q2 : (a0_1 == a1_1) = false := by simpa using fun h => hn ⟨g1, h⟩
                  have q1 := beq_iff_eq.2 g1
                  clear hz g1 hn
                  go_upto_region 12 with fail
                  clear c0 c1 c2 c3 c4 c5 c6 c7 c8 c9 c10 c11
                  have k0 : ∀ z : Sub wq10, z.val.cell? ⟨b7, 0, none⟩ = some (Value.int .i64 a0_0) := fun z => (((HR.out.keep z.below).cl (b7) a0_0 a0_1 (by simp)).2.1)
                  have k1 : ∀ z : Sub wq10, z.val.cell? ⟨b7, 1, none⟩ = some (Value.int .i64 a0_1) := fun z => (((HR.out.keep z.below).cl (b7) a0_0 a0_1 (by simp)).2.2)
                  have k2 : ∀ z : Sub wq10, z.val.cell? ⟨b8, 0, none⟩ = some (Value.int .i64 a1_0) := fun z => (((HR.out.keep z.below).cl (b8) a1_0 a1_1 (by simp)).2.1)
                  have k3 : ∀ z : Sub wq10, z.val.cell? ⟨b8, 1, none⟩ = some (Value.int .i64 a1_1) := fun z => (((HR.out.keep z.below).cl (b8) a1_0 a1_1 (by simp)).2.2)
                  have k4 : ∀ z : Sub wq10, z.val.cell? ⟨b9, 0, none⟩ = some (Value.int .i64 a2_0) := fun z => (((HR.out.keep z.below).cl (b9) a2_0 a2_1 (by simp)).2.1)
                  have k5 : ∀ z : Sub wq10, z.val.cell? ⟨b9, 1, none⟩ = some (Value.int .i64 a2_1) := fun z => (((HR.out.keep z.below).cl (b9) a2_0 a2_1 (by simp)).2.2)
                  have k6 : ∀ z : Sub wq10, z.val.cell? ⟨w.heap.size, 0, none⟩ = some (Value.int .i64 a0_0) := fun z => (((HR.out.keep z.below).cl (w.heap.size) a0_0 a0_1 (by simp)).2.1)
                  have k7 : ∀ z : Sub wq10, z.val.cell? ⟨w.heap.size, 1, none⟩ = some (Value.int .i64 a0_1) := fun z => (((HR.out.keep z.below).cl (w.heap.size) a0_0 a0_1 (by simp)).2.2)
                  have k8 : ∀ z : Sub wq10, z.val.cell? ⟨w.heap.size + 1, 0, none⟩ = some (Value.int .i64 a1_0) := fun z => (((HR.out.keep z.below).cl (w.heap.size + 1) a1_0 a1_1 (by simp)).2.1)
                  have k9 : ∀ z : Sub wq10, z.val.cell? ⟨w.heap.size + 1, 1, none⟩ = some (Value.int .i64 a1_1) := fun z => (((HR.out.keep z.below).cl (w.heap.size + 1) a1_0 a1_1 (by simp)).2.2)
                  have k10 : ∀ z : Sub wq10, z.val.cell? ⟨w.heap.size + 1 + 1, 0, none⟩ = some (Value.int .i64 a2_0) := fun z => (((HR.out.keep z.below).cl (w.heap.size + 1 + 1) a2_0 a2_1 (by simp)).2.1)
                  have k11 : ∀ z : Sub wq10, z.val.cell? ⟨w.heap.size + 1 + 1, 1, none⟩ = some (Value.int .i64 a2_1) := fun z => (((HR.out.keep z.below).cl (w.heap.size + 1 + 1) a2_0 a2_1 (by simp)).2.2)
                  have KT : ∀ y : Sub wq10, Hid (Tabs y.val) := fun y => hide (HT.out.keep (HR.out.below.trans (y.below.mono HR.out.below.size)))
                  refine wp_region_sub (w0 := wq10) (by kernel_rfl) (by kernel_rfl) (Below.refl _ _).drew ?_
                  repeat (first | go_big_quiet_step ((first | (go_at_call 21; with_reducible exact sub_of _ (CP01 _).out) | (go_at_call 16; exact sub_of _ (K _ (KT _).out).out))) | quiet_step ((first | (go_at_call 21; with_reducible exact sub_of _ (CP01 _).out) | (go_at_call 16; exact sub_of _ (K _ (KT _).out).out))))
                  refine wpQuiet_nil ?_
                  rintro _ ⟨y, rfl⟩
                  go_wp2_with fail
                  go_ret
                  exact ⟨rfl, HR.out.below.trans (y.below.mono HR.out.below.size)⟩
                · have q1 : (a0_0 == a1_0) = false := by simpa using g1
                  clear hz g1 hn
                  go_upto_region 12 with fail
                  clear c0 c1 c2 c3 c4 c5 c6 c7 c8 c9 c10 c11
                  have k0 : ∀ z : Sub wq10, z.val.cell? ⟨b7, 0, none⟩ = some (Value.int .i64 a0_0) := fun z => (((HR.out.keep z.below).cl (b7) a0_0 a0_1 (by simp)).2.1)
                  have k1 : ∀ z : Sub wq10, z.val.cell? ⟨b7, 1, none⟩ = some (Value.int .i64 a0_1) := fun z => (((HR.out.keep z.below).cl (b7) a0_0 a0_1 (by simp)).2.2)
                  have k2 : ∀ z : Sub wq10, z.val.cell? ⟨b8, 0, none⟩ = some (Value.int .i64 a1_0) := fun z => (((HR.out.keep z.below).cl (b8) a1_0 a1_1 (by simp)).2.1)
                  have k3 : ∀ z : Sub wq10, z.val.cell? ⟨b8, 1, none⟩ = some (Value.int .i64 a1_1) := fun z => (((HR.out.keep z.below).cl (b8) a1_0 a1_1 (by simp)).2.2)
                  have k4 : ∀ z : Sub wq10, z.val.cell? ⟨b9, 0, none⟩ = some (Value.int .i64 a2_0) := fun z => (((HR.out.keep z.below).cl (b9) a2_0 a2_1 (by simp)).2.1)
                  have k5 : ∀ z : Sub wq10, z.val.cell? ⟨b9, 1, none⟩ = some (Value.int .i64 a2_1) := fun z => (((HR.out.keep z.below).cl (b9) a2_0 a2_1 (by simp)).2.2)
                  have k6 : ∀ z : Sub wq10, z.val.cell? ⟨w.heap.size, 0, none⟩ = some (Value.int .i64 a0_0) := fun z => (((HR.out.keep z.below).cl (w.heap.size) a0_0 a0_1 (by simp)).2.1)
                  have k7 : ∀ z : Sub wq10, z.val.cell? ⟨w.heap.size, 1, none⟩ = some (Value.int .i64 a0_1) := fun z => (((HR.out.keep z.below).cl (w.heap.size) a0_0 a0_1 (by simp)).2.2)
                  have k8 : ∀ z : Sub wq10, z.val.cell? ⟨w.heap.size + 1, 0, none⟩ = some (Value.int .i64 a1_0) := fun z => (((HR.out.keep z.below).cl (w.heap.size + 1) a1_0 a1_1 (by simp)).2.1)
                  have k9 : ∀ z : Sub wq10, z.val.cell? ⟨w.heap.size + 1, 1, none⟩ = some (Value.int .i64 a1_1) := fun z => (((HR.out.keep z.below).cl (w.heap.size + 1) a1_0 a1_1 (by simp)).2.2)
                  have k10 : ∀ z : Sub wq10, z.val.cell? ⟨w.heap.size + 1 + 1, 0, none⟩ = some (Value.int .i64 a2_0) := fun z => (((HR.out.keep z.below).cl (w.heap.size + 1 + 1) a2_0 a2_1 (by simp)).2.1)
                  have k11 : ∀ z : Sub wq10, z.val.cell? ⟨w.heap.size + 1 + 1, 1, none⟩ = some (Value.int .i64 a2_1) := fun z => (((HR.out.keep z.below).cl (w.heap.size + 1 + 1) a2_0 a2_1 (by simp)).2.2)
                  have KT : ∀ y : Sub wq10, Hid (Tabs y.val) := fun y => hide (HT.out.keep (HR.out.below.trans (y.below.mono HR.out.below.size)))
                  refine wp_region_sub (w0 := wq10) (by kernel_rfl) (by kernel_rfl) (Below.refl _ _).drew ?_
                  repeat (first | go_big_quiet_step ((first | (go_at_call 21; with_reducible exact sub_of _ (CP01 _).out) | (go_at_call 16; exact sub_of _ (K _ (KT _).out).out))) | quiet_step ((first | (go_at_call 21; with_reducible exact sub_of _ (CP01 _).out) | (go_at_call 16; exact sub_of _ (K _ (KT _).out).out))))
                  refine wpQuiet_nil ?_
                  rintro _ ⟨y, rfl⟩
                  go_wp2_with fail
                  go_ret
                  exact ⟨rfl, HR.out.below.trans (y.below.mono HR.out.below.size)⟩
          · have e1 : (E2 == 0) = false := by simpa using h2
            have e2 : (E2 != 0) = true := by simpa using h2
            go_wp2_with fail
            refine ((K2 _).out).mono ?_
            rintro e wq11 ⟨rfl, hb⟩
            have HR := hide (HR.out.keep hb)
            clear hb c0 c1 c2 c3 c4 c5 c6 c7 c8 c9 c10 c11
            obtain ⟨_, c0, c1⟩ := HR.out.cl (b7) a0_0 a0_1 (by simp)
            obtain ⟨_, c2, c3⟩ := HR.out.cl (b8) a1_0 a1_1 (by simp)
            obtain ⟨_, c4, c5⟩ := HR.out.cl (b9) a2_0 a2_1 (by simp)
            obtain ⟨_, c6, c7⟩ := HR.out.cl (w.heap.size) a0_0 a0_1 (by simp)
            obtain ⟨_, c8, c9⟩ := HR.out.cl (w.heap.size + 1) a1_0 a1_1 (by simp)
            obtain ⟨_, c10, c11⟩ := HR.out.cl (w.heap.size + 1 + 1) a2_0 a2_1 (by simp)
            go_wp2_with fail
            refine (K _ (HT.out.keep HR.out.below) |>.out).mono ?_
            rintro e wq12 ⟨rfl, hb⟩
            have HR := hide (HR.out.keep hb)
            clear hb c0 c1 c2 c3 c4 c5 c6 c7 c8 c9 c10 c11
            go_wp2_with fail
            go_ret
            exact ⟨rfl, HR.out.below⟩
        · have e1 : (E1 == 0) = false := by simpa using h1
          have e2 : (E1 != 0) = true := by simpa using h1
          go_wp2_with fail
          refine ((K1 _).out).mono ?_
          rintro e wq13 ⟨rfl, hb⟩
          have HR := hide (HR.out.keep hb)
          clear hb c0 c1 c2 c3 c4 c5 c6 c7 c8 c9 c10 c11
          obtain ⟨_, c0, c1⟩ := HR.out.cl (b7) a0_0 a0_1 (by simp)
          obtain ⟨_, c2, c3⟩ := HR.out.cl (b8) a1_0 a1_1 (by simp)
          obtain ⟨_, c4, c5⟩ := HR.out.cl (b9) a2_0 a2_1 (by simp)
          obtain ⟨_, c6, c7⟩ := HR.out.cl (w.heap.size) a0_0 a0_1 (by simp)
          obtain ⟨_, c8, c9⟩ := HR.out.cl (w.heap.size + 1) a1_0 a1_1 (by simp)
          obtain ⟨_, c10, c11⟩ := HR.out.cl (w.heap.size + 1 + 1) a2_0 a2_1 (by simp)
          go_wp2_with fail
          refine (K _ (HT.out.keep HR.out.below) |>.out).mono ?_
          rintro e wq14 ⟨rfl, hb⟩
          have HR := hide (HR.out.keep hb)
          clear hb c0 c1 c2 c3 c4 c5 c6 c7 c8 c9 c10 c11
          go_wp2_with fail
          go_ret
          exact ⟨rfl, HR.out.below⟩
      · have e1 : (E0 == 0) = false := by simpa using h0
        have e2 : (E0 != 0) = true := by simpa using h0
        go_wp2_with fail
        refine ((K0 _).out).mono ?_
        rintro e wq15 ⟨rfl, hb⟩
        have HR := hide (HR.out.keep hb)
        clear hb c0 c1 c2 c3 c4 c5 c6 c7 c8 c9 c10 c11
        obtain ⟨_, c0, c1⟩ := HR.out.cl (b7) a0_0 a0_1 (by simp)
        obtain ⟨_, c2, c3⟩ := HR.out.cl (b8) a1_0 a1_1 (by simp)
        obtain ⟨_, c4, c5⟩ := HR.out.cl (b9) a2_0 a2_1 (by simp)
        obtain ⟨_, c6, c7⟩ := HR.out.cl (w.heap.size) a0_0 a0_1 (by simp)
        obtain ⟨_, c8, c9⟩ := HR.out.cl (w.heap.size + 1) a1_0 a1_1 (by simp)
        obtain ⟨_, c10, c11⟩ := HR.out.cl (w.heap.size + 1 + 1) a2_0 a2_1 (by simp)
        go_wp2_with fail
        refine (K _ (HT.out.keep HR.out.below) |>.out).mono ?_
        rintro e wq16 ⟨rfl, hb⟩
        have HR := hide (HR.out.keep hb)
        clear hb c0 c1 c2 c3 c4 c5 c6 c7 c8 c9 c10 c11
        go_wp2_with fail
        go_ret
        exact ⟨rfl, HR.out.below⟩
    · have e1 : (SE == 0) = false := by simpa using hE
      go_upto_region 8 with fail
      have HR := hide (HR.out.keep ((Below.refl _ _).alloc (Nat.le_refl _) (Obj.cells #[Value.int IntKind.i64 SN, Value.int IntKind.i64 SD] 23)))
      generalize (wq1.alloc (Obj.cells #[Value.int IntKind.i64 SN, Value.int IntKind.i64 SD] 23)) = W at *
      clear c0 c1 c2 c3 c4 c5 c6 c7 c8 c9 c10 c11
      obtain ⟨_, c0, c1⟩ := HR.out.cl (b7) a0_0 a0_1 (by simp)
      obtain ⟨_, c2, c3⟩ := HR.out.cl (b8) a1_0 a1_1 (by simp)
      obtain ⟨_, c4, c5⟩ := HR.out.cl (b9) a2_0 a2_1 (by simp)
      obtain ⟨_, c6, c7⟩ := HR.out.cl (w.heap.size) a0_0 a0_1 (by simp)
      obtain ⟨_, c8, c9⟩ := HR.out.cl (w.heap.size + 1) a1_0 a1_1 (by simp)
      obtain ⟨_, c10, c11⟩ := HR.out.cl (w.heap.size + 1 + 1) a2_0 a2_1 (by simp)
      by_cases h0 : E0 = 0
      · subst h0
        go_wp2_with fail
        refine ((K0 _).out).mono ?_
        rintro e wq17 ⟨rfl, hb⟩
        have HR := hide (HR.out.keep hb)
        clear hb c0 c1 c2 c3 c4 c5 c6 c7 c8 c9 c10 c11
        obtain ⟨_, c0, c1⟩ := HR.out.cl (b7) a0_0 a0_1 (by simp)
        obtain ⟨_, c2, c3⟩ := HR.out.cl (b8) a1_0 a1_1 (by simp)
        obtain ⟨_, c4, c5⟩ := HR.out.cl (b9) a2_0 a2_1 (by simp)
        obtain ⟨_, c6, c7⟩ := HR.out.cl (w.heap.size) a0_0 a0_1 (by simp)
        obtain ⟨_, c8, c9⟩ := HR.out.cl (w.heap.size + 1) a1_0 a1_1 (by simp)
        obtain ⟨_, c10, c11⟩ := HR.out.cl (w.heap.size + 1 + 1) a2_0 a2_1 (by simp)
        by_cases h1 : E1 = 0
        · subst h1
          go_wp2_with fail
          refine ((K1 _).out).mono ?_
          rintro e wq18 ⟨rfl, hb⟩
          have HR := hide (HR.out.keep hb)
          clear hb c0 c1 c2 c3 c4 c5 c6 c7 c8 c9 c10 c11
          obtain ⟨_, c0, c1⟩ := HR.out.cl (b7) a0_0 a0_1 (by simp)
          obtain ⟨_, c2, c3⟩ := HR.out.cl (b8) a1_0 a1_1 (by simp)
          obtain ⟨_, c4, c5⟩ := HR.out.cl (b9) a2_0 a2_1 (by simp)
          obtain ⟨_, c6, c7⟩ := HR.out.cl (w.heap.size) a0_0 a0_1 (by simp)
          obtain ⟨_, c8, c9⟩ := HR.out.cl (w.heap.size + 1) a1_0 a1_1 (by simp)
          obtain ⟨_, c10, c11⟩ := HR.out.cl (w.heap.size + 1 + 1) a2_0 a2_1 (by simp)
          by_cases h2 : E2 = 0
          · subst h2
            go_wp2_with fail
            refine ((K2 _).out).mono ?_
            rintro e wq19 ⟨rfl, hb⟩
            have HR := hide (HR.out.keep hb)
            clear hb c0 c1 c2 c3 c4 c5 c6 c7 c8 c9 c10 c11
            obtain ⟨_, c0, c1⟩ := HR.out.cl (b7) a0_0 a0_1 (by simp)
            obtain ⟨_, c2, c3⟩ := HR.out.cl (b8) a1_0 a1_1 (by simp)
            obtain ⟨_, c4, c5⟩ := HR.out.cl (b9) a2_0 a2_1 (by simp)
            obtain ⟨_, c6, c7⟩ := HR.out.cl (w.heap.size) a0_0 a0_1 (by simp)
            obtain ⟨_, c8, c9⟩ := HR.out.cl (w.heap.size + 1) a1_0 a1_1 (by simp)
            obtain ⟨_, c10, c11⟩ := HR.out.cl (w.heap.size + 1 + 1) a2_0 a2_1 (by simp)
            by_cases p1 : C1 ≤ 0
            · by_cases p2 : C2 ≤ 0
              · have p3 : ¬ 0 < C3 := by have := FT.out (by first | rfl | trivial) (by first | rfl | trivial) (by first | rfl | trivial) p1 p2; omega
                go_wp2_with fail
                refine ((CP01 _).out).mono ?_
                rintro e wq20 ⟨rfl, hb⟩
                have HR := hide (HR.out.keep hb)
                clear hb c0 c1 c2 c3 c4 c5 c6 c7 c8 c9 c10 c11
                obtain ⟨_, c0, c1⟩ := HR.out.cl (b7) a0_0 a0_1 (by simp)
                obtain ⟨_, c2, c3⟩ := HR.out.cl (b8) a1_0 a1_1 (by simp)
                obtain ⟨_, c4, c5⟩ := HR.out.cl (b9) a2_0 a2_1 (by simp)
                obtain ⟨_, c6, c7⟩ := HR.out.cl (w.heap.size) a0_0 a0_1 (by simp)
                obtain ⟨_, c8, c9⟩ := HR.out.cl (w.heap.size + 1) a1_0 a1_1 (by simp)
                obtain ⟨_, c10, c11⟩ := HR.out.cl (w.heap.size + 1 + 1) a2_0 a2_1 (by simp)
                go_wp2_with fail
                refine ((CP12 _).out).mono ?_
                rintro e wq21 ⟨rfl, hb⟩
                have HR := hide (HR.out.keep hb)
                clear hb c0 c1 c2 c3 c4 c5 c6 c7 c8 c9 c10 c11
                obtain ⟨_, c0, c1⟩ := HR.out.cl (b7) a0_0 a0_1 (by simp)
                obtain ⟨_, c2, c3⟩ := HR.out.cl (b8) a1_0 a1_1 (by simp)
                obtain ⟨_, c4, c5⟩ := HR.out.cl (b9) a2_0 a2_1 (by simp)
                obtain ⟨_, c6, c7⟩ := HR.out.cl (w.heap.size) a0_0 a0_1 (by simp)
                obtain ⟨_, c8, c9⟩ := HR.out.cl (w.heap.size + 1) a1_0 a1_1 (by simp)
                obtain ⟨_, c10, c11⟩ := HR.out.cl (w.heap.size + 1 + 1) a2_0 a2_1 (by simp)
                go_wp2_with fail
                refine ((CP02 _).out).mono ?_
                rintro e wq22 ⟨rfl, hb⟩
                have HR := hide (HR.out.keep hb)
                clear hb c0 c1 c2 c3 c4 c5 c6 c7 c8 c9 c10 c11
                obtain ⟨_, c0, c1⟩ := HR.out.cl (b7) a0_0 a0_1 (by simp)
                obtain ⟨_, c2, c3⟩ := HR.out.cl (b8) a1_0 a1_1 (by simp)
                obtain ⟨_, c4, c5⟩ := HR.out.cl (b9) a2_0 a2_1 (by simp)
                obtain ⟨_, c6, c7⟩ := HR.out.cl (w.heap.size) a0_0 a0_1 (by simp)
                obtain ⟨_, c8, c9⟩ := HR.out.cl (w.heap.size + 1) a1_0 a1_1 (by simp)
                obtain ⟨_, c10, c11⟩ := HR.out.cl (w.heap.size + 1 + 1) a2_0 a2_1 (by simp)
                by_cases hz : C1 = 0
                · obtain ⟨g1, g2⟩ := (FZ.out (by first | rfl | trivial) (by first | rfl | trivial)).1 hz
                  have q0 := beq_iff_eq.2 hz
                  have q1 := beq_iff_eq.2 g1
                  have q2 := beq_iff_eq.2 g2
                  clear hz g1 g2
                  go_upto_region 12 with fail
                  clear c0 c1 c2 c3 c4 c5 c6 c7 c8 c9 c10 c11
                  have k0 : ∀ z : Sub wq22, z.val.cell? ⟨b7, 0, none⟩ = some (Value.int .i64 a0_0) := fun z => (((HR.out.keep z.below).cl (b7) a0_0 a0_1 (by simp)).2.1)
                  have k1 : ∀ z : Sub wq22, z.val.cell? ⟨b7, 1, none⟩ = some (Value.int .i64 a0_1) := fun z => (((HR.out.keep z.below).cl (b7) a0_0 a0_1 (by simp)).2.2)
                  have k2 : ∀ z : Sub wq22, z.val.cell? ⟨b8, 0, none⟩ = some (Value.int .i64 a1_0) := fun z => (((HR.out.keep z.below).cl (b8) a1_0 a1_1 (by simp)).2.1)
                  have k3 : ∀ z : Sub wq22, z.val.cell? ⟨b8, 1, none⟩ = some (Value.int .i64 a1_1) := fun z => (((HR.out.keep z.below).cl (b8) a1_0 a1_1 (by simp)).2.2)
                  have k4 : ∀ z : Sub wq22, z.val.cell? ⟨b9, 0, none⟩ = some (Value.int .i64 a2_0) := fun z => (((HR.out.keep z.below).cl (b9) a2_0 a2_1 (by simp)).2.1)
                  have k5 : ∀ z : Sub wq22, z.val.cell? ⟨b9, 1, none⟩ = some (Value.int .i64 a2_1) := fun z => (((HR.out.keep z.below).cl (b9) a2_0 a2_1 (by simp)).2.2)
                  have k6 : ∀ z : Sub wq22, z.val.cell? ⟨w.heap.size, 0, none⟩ = some (Value.int .i64 a0_0) := fun z => (((HR.out.keep z.below).cl (w.heap.size) a0_0 a0_1 (by simp)).2.1)
                  have k7 : ∀ z : Sub wq22, z.val.cell? ⟨w.heap.size, 1, none⟩ = some (Value.int .i64 a0_1) := fun z => (((HR.out.keep z.below).cl (w.heap.size) a0_0 a0_1 (by simp)).2.2)
                  have k8 : ∀ z : Sub wq22, z.val.cell? ⟨w.heap.size + 1, 0, none⟩ = some (Value.int .i64 a1_0) := fun z => (((HR.out.keep z.below).cl (w.heap.size + 1) a1_0 a1_1 (by simp)).2.1)
                  have k9 : ∀ z : Sub wq22, z.val.cell? ⟨w.heap.size + 1, 1, none⟩ = some (Value.int .i64 a1_1) := fun z => (((HR.out.keep z.below).cl (w.heap.size + 1) a1_0 a1_1 (by simp)).2.2)
                  have k10 : ∀ z : Sub wq22, z.val.cell? ⟨w.heap.size + 1 + 1, 0, none⟩ = some (Value.int .i64 a2_0) := fun z => (((HR.out.keep z.below).cl (w.heap.size + 1 + 1) a2_0 a2_1 (by simp)).2.1)
                  have k11 : ∀ z : Sub wq22, z.val.cell? ⟨w.heap.size + 1 + 1, 1, none⟩ = some (Value.int .i64 a2_1) := fun z => (((HR.out.keep z.below).cl (w.heap.size + 1 + 1) a2_0 a2_1 (by simp)).2.2)
                  have KT : ∀ y : Sub wq22, Hid (Tabs y.val) := fun y => hide (HT.out.keep (HR.out.below.trans (y.below.mono HR.out.below.size)))
                  refine wp_region_sub (w0 := wq22) (by kernel_rfl) (by kernel_rfl) (Below.refl _ _).drew ?_
                  repeat (first | go_big_quiet_step ((first | (go_at_call 21; with_reducible exact sub_of _ (CP01 _).out) | (go_at_call 16; exact sub_of _ (K _ (KT _).out).out))) | quiet_step ((first | (go_at_call 21; with_reducible exact sub_of _ (CP01 _).out) | (go_at_call 16; exact sub_of _ (K _ (KT _).out).out))))
                  refine wpQuiet_nil ?_
                  rintro _ ⟨y, rfl⟩
                  go_wp2_with fail
                  go_ret
                  exact ⟨rfl, HR.out.below.trans (y.below.mono HR.out.below.size)⟩
                · have q0 : (C1 == 0) = false := by simpa using hz
                  have hn := fun h => hz ((FZ.out (by first | rfl | trivial) (by first | rfl | trivial)).2 h)
                  by_cases g1 : a0_0 = a1_0
                  · have q2 : (a0_1 == a1_1) = false := by simpa using fun h => hn ⟨g1, h⟩
                    have q1 := beq_iff_eq.2 g1
                    clear hz g1 hn
                    go_upto_region 12 with fail
                    clear c0 c1 c2 c3 c4 c5 c6 c7 c8 c9 c10 c11
                    have k0 : ∀ z : Sub wq22, z.val.cell? ⟨b7, 0, none⟩ = some (Value.int .i64 a0_0) := fun z => (((HR.out.keep z.below).cl (b7) a0_0 a0_1 (by simp)).2.1)
                    have k1 : ∀ z : Sub wq22, z.val.cell? ⟨b7, 1, none⟩ = some (Value.int .i64 a0_1) := fun z => (((HR.out.keep z.below).cl (b7) a0_0 a0_1 (by simp)).2.2)
                    have k2 : ∀ z : Sub wq22, z.val.cell? ⟨b8, 0, none⟩ = some (Value.int .i64 a1_0) := fun z => (((HR.out.keep z.below).cl (b8) a1_0 a1_1 (by simp)).2.1)
                    have k3 : ∀ z : Sub wq22, z.val.cell? ⟨b8, 1, none⟩ = some (Value.int .i64 a1_1) := fun z => (((HR.out.keep z.below).cl (b8) a1_0 a1_1 (by simp)).2.2)
                    have k4 : ∀ z : Sub wq22, z.val.cell? ⟨b9, 0, none⟩ = some (Value.int .i64 a2_0) := fun z => (((HR.out.keep z.below).cl (b9) a2_0 a2_1 (by simp)).2.1)
                    have k5 : ∀ z : Sub wq22, z.val.cell? ⟨b9, 1, none⟩ = some (Value.int .i64 a2_1) := fun z => (((HR.out.keep z.below).cl (b9) a2_0 a2_1 (by simp)).2.2)
                    have k6 : ∀ z : Sub wq22, z.val.cell? ⟨w.heap.size, 0, none⟩ = some (Value.int .i64 a0_0) := fun z => (((HR.out.keep z.below).cl (w.heap.size) a0_0 a0_1 (by simp)).2.1)
                    have k7 : ∀ z : Sub wq22, z.val.cell? ⟨w.heap.size, 1, none⟩ = some (Value.int .i64 a0_1) := fun z => (((HR.out.keep z.below).cl (w.heap.size) a0_0 a0_1 (by simp)).2.2)
                    have k8 : ∀ z : Sub wq22, z.val.cell? ⟨w.heap.size + 1, 0, none⟩ = some (Value.int .i64 a1_0) := fun z => (((HR.out.keep z.below).cl (w.heap.size + 1) a1_0 a1_1 (by simp)).2.1)
                    have k9 : ∀ z : Sub wq22, z.val.cell? ⟨w.heap.size + 1, 1, none⟩ = some (Value.int .i64 a1_1) := fun z => (((HR.out.keep z.below).cl (w.heap.size + 1) a1_0 a1_1 (by simp)).2.2)
                    have k10 : ∀ z : Sub wq22, z.val.cell? ⟨w.heap.size + 1 + 1, 0, none⟩ = some (Value.int .i64 a2_0) := fun z => (((HR.out.keep z.below).cl (w.heap.size + 1 + 1) a2_0 a2_1 (by simp)).2.1)
                    have k11 : ∀ z : Sub wq22, z.val.cell? ⟨w.heap.size + 1 + 1, 1, none⟩ = some (Value.int .i64 a2_1) := fun z => (((HR.out.keep z.below).cl (w.heap.size + 1 + 1) a2_0 a2_1 (by simp)).2.2)
                    have KT : ∀ y : Sub wq22, Hid (Tabs y.val) := fun y => hide (HT.out.keep (HR.out.below.trans (y.below.mono HR.out.below.size)))
                    refine wp_region_sub (w0 := wq22) (by kernel_rfl) (by kernel_rfl) (Below.refl _ _).drew ?_
                    repeat (first | go_big_quiet_step ((first | (go_at_call 21; with_reducible exact sub_of _ (CP01 _).out) | (go_at_call 16; exact sub_of _ (K _ (KT _).out).out))) | quiet_step ((first | (go_at_call 21; with_reducible exact sub_of _ (CP01 _).out) | (go_at_call 16; exact sub_of _ (K _ (KT _).out).out))))
                    refine wpQuiet_nil ?_
                    rintro _ ⟨y, rfl⟩
                    go_wp2_with fail
                    go_ret
                    exact ⟨rfl, HR.out.below.trans (y.below.mono HR.out.below.size)⟩
                  · have q1 : (a0_0 == a1_0) = false := by simpa using g1
                    clear hz g1 hn
                    go_upto_region 12 with fail
                    clear c0 c1 c2 c3 c4 c5 c6 c7 c8 c9 c10 c11
                    have k0 : ∀ z : Sub wq22, z.val.cell? ⟨b7, 0, none⟩ = some (Value.int .i64 a0_0) := fun z => (((HR.out.keep z.below).cl (b7) a0_0 a0_1 (by simp)).2.1)
                    have k1 : ∀ z : Sub wq22, z.val.cell? ⟨b7, 1, none⟩ = some (Value.int .i64 a0_1) := fun z => (((HR.out.keep z.below).cl (b7) a0_0 a0_1 (by simp)).2.2)
                    have k2 : ∀ z : Sub wq22, z.val.cell? ⟨b8, 0, none⟩ = some (Value.int .i64 a1_0) := fun z => (((HR.out.keep z.below).cl (b8) a1_0 a1_1 (by simp)).2.1)
                    have k3 : ∀ z : Sub wq22, z.val.cell? ⟨b8, 1, none⟩ = some (Value.int .i64 a1_1) := fun z => (((HR.out.keep z.below).cl (b8) a1_0 a1_1 (by simp)).2.2)
                    have k4 : ∀ z : Sub wq22, z.val.cell? ⟨b9, 0, none⟩ = some (Value.int .i64 a2_0) := fun z => (((HR.out.keep z.below).cl (b9) a2_0 a2_1 (by simp)).2.1)
                    have k5 : ∀ z : Sub wq22, z.val.cell? ⟨b9, 1, none⟩ = some (Value.int .i64 a2_1) := fun z => (((HR.out.keep z.below).cl (b9) a2_0 a2_1 (by simp)).2.2)
                    have k6 : ∀ z : Sub wq22, z.val.cell? ⟨w.heap.size, 0, none⟩ = some (Value.int .i64 a0_0) := fun z => (((HR.out.keep z.below).cl (w.heap.size) a0_0 a0_1 (by simp)).2.1)
                    have k7 : ∀ z : Sub wq22, z.val.cell? ⟨w.heap.size, 1, none⟩ = some (Value.int .i64 a0_1) := fun z => (((HR.out.keep z.below).cl (w.heap.size) a0_0 a0_1 (by simp)).2.2)
                    have k8 : ∀ z : Sub wq22, z.val.cell? ⟨w.heap.size + 1, 0, none⟩ = some (Value.int .i64 a1_0) := fun z => (((HR.out.keep z.below).cl (w.heap.size + 1) a1_0 a1_1 (by simp)).2.1)
                    have k9 : ∀ z : Sub wq22, z.val.cell? ⟨w.heap.size + 1, 1, none⟩ = some (Value.int .i64 a1_1) := fun z => (((HR.out.keep z.below).cl (w.heap.size + 1) a1_0 a1_1 (by simp)).2.2)
                    have k10 : ∀ z : Sub wq22, z.val.cell? ⟨w.heap.size + 1 + 1, 0, none⟩ = some (Value.int .i64 a2_0) := fun z => (((HR.out.keep z.below).cl (w.heap.size + 1 + 1) a2_0 a2_1 (by simp)).2.1)
                    have k11 : ∀ z : Sub wq22, z.val.cell? ⟨w.heap.size + 1 + 1, 1, none⟩ = some (Value.int .i64 a2_1) := fun z => (((HR.out.keep z.below).cl (w.heap.size + 1 + 1) a2_0 a2_1 (by simp)).2.2)
                    have KT : ∀ y : Sub wq22, Hid (Tabs y.val) := fun y => hide (HT.out.keep (HR.out.below.trans (y.below.mono HR.out.below.size)))
                    refine wp_region_sub (w0 := wq22) (by kernel_rfl) (by kernel_rfl) (Below.refl _ _).drew ?_
                    repeat (first | go_big_quiet_step ((first | (go_at_call 21; with_reducible exact sub_of _ (CP01 _).out) | (go_at_call 16; exact sub_of _ (K _ (KT _).out).out))) | quiet_step ((first | (go_at_call 21; with_reducible exact sub_of _ (CP01 _).out) | (go_at_call 16; exact sub_of _ (K _ (KT _).out).out))))
                    refine wpQuiet_nil ?_
                    rintro _ ⟨y, rfl⟩
                    go_wp2_with fail
                    go_ret
                    exact ⟨rfl, HR.out.below.trans (y.below.mono HR.out.below.size)⟩
              · skip
                go_wp2_with fail
                refine ((CP01 _).out).mono ?_
                rintro e wq23 ⟨rfl, hb⟩
                have HR := hide (HR.out.keep hb)
                clear hb c0 c1 c2 c3 c4 c5 c6 c7 c8 c9 c10 c11
                obtain ⟨_, c0, c1⟩ := HR.out.cl (b7) a0_0 a0_1 (by simp)
                obtain ⟨_, c2, c3⟩ := HR.out.cl (b8) a1_0 a1_1 (by simp)
                obtain ⟨_, c4, c5⟩ := HR.out.cl (b9) a2_0 a2_1 (by simp)
                obtain ⟨_, c6, c7⟩ := HR.out.cl (w.heap.size) a0_0 a0_1 (by simp)
                obtain ⟨_, c8, c9⟩ := HR.out.cl (w.heap.size + 1) a1_0 a1_1 (by simp)
                obtain ⟨_, c10, c11⟩ := HR.out.cl (w.heap.size + 1 + 1) a2_0 a2_1 (by simp)
                go_wp2_with fail
                refine ((CP12 _).out).mono ?_
                rintro e wq24 ⟨rfl, hb⟩
                have HR := hide (HR.out.keep hb)
                clear hb c0 c1 c2 c3 c4 c5 c6 c7 c8 c9 c10 c11
                obtain ⟨_, c0, c1⟩ := HR.out.cl (b7) a0_0 a0_1 (by simp)
                obtain ⟨_, c2, c3⟩ := HR.out.cl (b8) a1_0 a1_1 (by simp)
                obtain ⟨_, c4, c5⟩ := HR.out.cl (b9) a2_0 a2_1 (by simp)
                obtain ⟨_, c6, c7⟩ := HR.out.cl (w.heap.size) a0_0 a0_1 (by simp)
                obtain ⟨_, c8, c9⟩ := HR.out.cl (w.heap.size + 1) a1_0 a1_1 (by simp)
                obtain ⟨_, c10, c11⟩ := HR.out.cl (w.heap.size + 1 + 1) a2_0 a2_1 (by simp)
                by_cases hz : C1 = 0
                · obtain ⟨g1, g2⟩ := (FZ.out (by first | rfl | trivial) (by first | rfl | trivial)).1 hz
                  have q0 := beq_iff_eq.2 hz
                  have q1 := beq_iff_eq.2 g1
                  have q2 := beq_iff_eq.2 g2
                  clear hz g1 g2
                  go_upto_region 12 with fail
                  clear c0 c1 c2 c3 c4 c5 c6 c7 c8 c9 c10 c11
                  have k0 : ∀ z : Sub wq24, z.val.cell? ⟨b7, 0, none⟩ = some (Value.int .i64 a0_0) := fun z => (((HR.out.keep z.below).cl (b7) a0_0 a0_1 (by simp)).2.1)
                  have k1 : ∀ z : Sub wq24, z.val.cell? ⟨b7, 1, none⟩ = some (Value.int .i64 a0_1) := fun z => (((HR.out.keep z.below).cl (b7) a0_0 a0_1 (by simp)).2.2)
                  have k2 : ∀ z : Sub wq24, z.val.cell? ⟨b8, 0, none⟩ = some (Value.int .i64 a1_0) := fun z => (((HR.out.keep z.below).cl (b8) a1_0 a1_1 (by simp)).2.1)
                  have k3 : ∀ z : Sub wq24, z.val.cell? ⟨b8, 1, none⟩ = some (Value.int .i64 a1_1) := fun z => (((HR.out.keep z.below).cl (b8) a1_0 a1_1 (by simp)).2.2)
                  have k4 : ∀ z : Sub wq24, z.val.cell? ⟨b9, 0, none⟩ = some (Value.int .i64 a2_0) := fun z => (((HR.out.keep z.below).cl (b9) a2_0 a2_1 (by simp)).2.1)
                  have k5 : ∀ z : Sub wq24, z.val.cell? ⟨b9, 1, none⟩ = some (Value.int .i64 a2_1) := fun z => (((HR.out.keep z.below).cl (b9) a2_0 a2_1 (by simp)).2.2)
                  have k6 : ∀ z : Sub wq24, z.val.cell? ⟨w.heap.size, 0, none⟩ = some (Value.int .i64 a0_0) := fun z => (((HR.out.keep z.below).cl (w.heap.size) a0_0 a0_1 (by simp)).2.1)
                  have k7 : ∀ z : Sub wq24, z.val.cell? ⟨w.heap.size, 1, none⟩ = some (Value.int .i64 a0_1) := fun z => (((HR.out.keep z.below).cl (w.heap.size) a0_0 a0_1 (by simp)).2.2)
                  have k8 : ∀ z : Sub wq24, z.val.cell? ⟨w.heap.size + 1, 0, none⟩ = some (Value.int .i64 a1_0) := fun z => (((HR.out.keep z.below).cl (w.heap.size + 1) a1_0 a1_1 (by simp)).2.1)
                  have k9 : ∀ z : Sub wq24, z.val.cell? ⟨w.heap.size + 1, 1, none⟩ = some (Value.int .i64 a1_1) := fun z => (((HR.out.keep z.below).cl (w.heap.size + 1) a1_0 a1_1 (by simp)).2.2)
                  have k10 : ∀ z : Sub wq24, z.val.cell? ⟨w.heap.size + 1 + 1, 0, none⟩ = some (Value.int .i64 a2_0) := fun z => (((HR.out.keep z.below).cl (w.heap.size + 1 + 1) a2_0 a2_1 (by simp)).2.1)
                  have k11 : ∀ z : Sub wq24, z.val.cell? ⟨w.heap.size + 1 + 1, 1, none⟩ = some (Value.int .i64 a2_1) := fun z => (((HR.out.keep z.below).cl (w.heap.size + 1 + 1) a2_0 a2_1 (by simp)).2.2)
                  have KT : ∀ y : Sub wq24, Hid (Tabs y.val) := fun y => hide (HT.out.keep (HR.out.below.trans (y.below.mono HR.out.below.size)))
                  refine wp_region_sub (w0 := wq24) (by kernel_rfl) (by kernel_rfl) (Below.refl _ _).drew ?_
                  repeat (first | go_big_quiet_step ((first | (go_at_call 21; with_reducible exact sub_of _ (CP01 _).out) | (go_at_call 16; exact sub_of _ (K _ (KT _).out).out))) | quiet_step ((first | (go_at_call 21; with_reducible exact sub_of _ (CP01 _).out) | (go_at_call 16; exact sub_of _ (K _ (KT _).out).out))))
                  refine wpQuiet_nil ?_
                  rintro _ ⟨y, rfl⟩
                  go_wp2_with fail
                  go_ret
                  exact ⟨rfl, HR.out.below.trans (y.below.mono HR.out.below.size)⟩
                · have q0 : (C1 == 0) = false := by simpa using hz
                  have hn := fun h => hz ((FZ.out (by first | rfl | trivial) (by first | rfl | trivial)).2 h)
                  by_cases g1 : a0_0 = a1_0
                  · have q2 : (a0_1 == a1_1) = false := by simpa using fun h => hn ⟨g1, h⟩
                    have q1 := beq_iff_eq.2 g1
                    clear hz g1 hn
                    go_upto_region 12 with fail
                    clear c0 c1 c2 c3 c4 c5 c6 c7 c8 c9 c10 c11
                    have k0 : ∀ z : Sub wq24, z.val.cell? ⟨b7, 0, none⟩ = some (Value.int .i64 a0_0) := fun z => (((HR.out.keep z.below).cl (b7) a0_0 a0_1 (by simp)).2.1)
                    have k1 : ∀ z : Sub wq24, z.val.cell? ⟨b7, 1, none⟩ = some (Value.int .i64 a0_1) := fun z => (((HR.out.keep z.below).cl (b7) a0_0 a0_1 (by simp)).2.2)
                    have k2 : ∀ z : Sub wq24, z.val.cell? ⟨b8, 0, none⟩ = some (Value.int .i64 a1_0) := fun z => (((HR.out.keep z.below).cl (b8) a1_0 a1_1 (by simp)).2.1)
                    have k3 : ∀ z : Sub wq24, z.val.cell? ⟨b8, 1, none⟩ = some (Value.int .i64 a1_1) := fun z => (((HR.out.keep z.below).cl (b8) a1_0 a1_1 (by simp)).2.2)
                    have k4 : ∀ z : Sub wq24, z.val.cell? ⟨b9, 0, none⟩ = some (Value.int .i64 a2_0) := fun z => (((HR.out.keep z.below).cl (b9) a2_0 a2_1 (by simp)).2.1)
                    have k5 : ∀ z : Sub wq24, z.val.cell? ⟨b9, 1, none⟩ = some (Value.int .i64 a2_1) := fun z => (((HR.out.keep z.below).cl (b9) a2_0 a2_1 (by simp)).2.2)
                    have k6 : ∀ z : Sub wq24, z.val.cell? ⟨w.heap.size, 0, none⟩ = some (Value.int .i64 a0_0) := fun z => (((HR.out.keep z.below).cl (w.heap.size) a0_0 a0_1 (by simp)).2.1)
                    have k7 : ∀ z : Sub wq24, z.val.cell? ⟨w.heap.size, 1, none⟩ = some (Value.int .i64 a0_1) := fun z => (((HR.out.keep z.below).cl (w.heap.size) a0_0 a0_1 (by simp)).2.2)
                    have k8 : ∀ z : Sub wq24, z.val.cell? ⟨w.heap.size + 1, 0, none⟩ = some (Value.int .i64 a1_0) := fun z => (((HR.out.keep z.below).cl (w.heap.size + 1) a1_0 a1_1 (by simp)).2.1)
                    have k9 : ∀ z : Sub wq24, z.val.cell? ⟨w.heap.size + 1, 1, none⟩ = some (Value.int .i64 a1_1) := fun z => (((HR.out.keep z.below).cl (w.heap.size + 1) a1_0 a1_1 (by simp)).2.2)
                    have k10 : ∀ z : Sub wq24, z.val.cell? ⟨w.heap.size + 1 + 1, 0, none⟩ = some (Value.int .i64 a2_0) := fun z => (((HR.out.keep z.below).cl (w.heap.size + 1 + 1) a2_0 a2_1 (by simp)).2.1)
                    have k11 : ∀ z : Sub wq24, z.val.cell? ⟨w.heap.size + 1 + 1, 1, none⟩ = some (Value.int .i64 a2_1) := fun z => (((HR.out.keep z.below).cl (w.heap.size + 1 + 1) a2_0 a2_1 (by simp)).2.2)
                    have KT : ∀ y : Sub wq24, Hid (Tabs y.val) := fun y => hide (HT.out.keep (HR.out.below.trans (y.below.mono HR.out.below.size)))
                    refine wp_region_sub (w0 := wq24) (by kernel_rfl) (by kernel_rfl) (Below.refl _ _).drew ?_
                    repeat (first | go_big_quiet_step ((first | (go_at_call 21; with_reducible exact sub_of _ (CP01 _).out) | (go_at_call 16; exact sub_of _ (K _ (KT _).out).out))) | quiet_step ((first | (go_at_call 21; with_reducible exact sub_of _ (CP01 _).out) | (go_at_call 16; exact sub_of _ (K _ (KT _).out).out))))
                    refine wpQuiet_nil ?_
                    rintro _ ⟨y, rfl⟩
                    go_wp2_with fail
                    go_ret
                    exact ⟨rfl, HR.out.below.trans (y.below.mono HR.out.below.size)⟩
                  · have q1 : (a0_0 == a1_0) = false := by simpa using g1
                    clear hz g1 hn
                    go_upto_region 12 with fail
                    clear c0 c1 c2 c3 c4 c5 c6 c7 c8 c9 c10 c11
                    have k0 : ∀ z : Sub wq24, z.val.cell? ⟨b7, 0, none⟩ = some (Value.int .i64 a0_0) := fun z => (((HR.out.keep z.below).cl (b7) a0_0 a0_1 (by simp)).2.1)
                    have k1 : ∀ z : Sub wq24, z.val.cell? ⟨b7, 1, none⟩ = some (Value.int .i64 a0_1) := fun z => (((HR.out.keep z.below).cl (b7) a0_0 a0_1 (by simp)).2.2)
                    have k2 : ∀ z : Sub wq24, z.val.cell? ⟨b8, 0, none⟩ = some (Value.int .i64 a1_0) := fun z => (((HR.out.keep z.below).cl (b8) a1_0 a1_1 (by simp)).2.1)
                    have k3 : ∀ z : Sub wq24, z.val.cell? ⟨b8, 1, none⟩ = some (Value.int .i64 a1_1) := fun z => (((HR.out.keep z.below).cl (b8) a1_0 a1_1 (by simp)).2.2)
                    have k4 : ∀ z : Sub wq24, z.val.cell? ⟨b9, 0, none⟩ = some (Value.int .i64 a2_0) := fun z => (((HR.out.keep z.below).cl (b9) a2_0 a2_1 (by simp)).2.1)
                    have k5 : ∀ z : Sub wq24, z.val.cell? ⟨b9, 1, none⟩ = some (Value.int .i64 a2_1) := fun z => (((HR.out.keep z.below).cl (b9) a2_0 a2_1 (by simp)).2.2)
                    have k6 : ∀ z : Sub wq24, z.val.cell? ⟨w.heap.size, 0, none⟩ = some (Value.int .i64 a0_0) := fun z => (((HR.out.keep z.below).cl (w.heap.size) a0_0 a0_1 (by simp)).2.1)
                    have k7 : ∀ z : Sub wq24, z.val.cell? ⟨w.heap.size, 1, none⟩ = some (Value.int .i64 a0_1) := fun z => (((HR.out.keep z.below).cl (w.heap.size) a0_0 a0_1 (by simp)).2.2)
                    have k8 : ∀ z : Sub wq24, z.val.cell? ⟨w.heap.size + 1, 0, none⟩ = some (Value.int .i64 a1_0) := fun z => (((HR.out.keep z.below).cl (w.heap.size + 1) a1_0 a1_1 (by simp)).2.1)
                    have k9 : ∀ z : Sub wq24, z.val.cell? ⟨w.heap.size + 1, 1, none⟩ = some (Value.int .i64 a1_1) := fun z => (((HR.out.keep z.below).cl (w.heap.size + 1) a1_0 a1_1 (by simp)).2.2)
                    have k10 : ∀ z : Sub wq24, z.val.cell? ⟨w.heap.size + 1 + 1, 0, none⟩ = some (Value.int .i64 a2_0) := fun z => (((HR.out.keep z.below).cl (w.heap.size + 1 + 1) a2_0 a2_1 (by simp)).2.1)
                    have k11 : ∀ z : Sub wq24, z.val.cell? ⟨w.heap.size + 1 + 1, 1, none⟩ = some (Value.int .i64 a2_1) := fun z => (((HR.out.keep z.below).cl (w.heap.size + 1 + 1) a2_0 a2_1 (by simp)).2.2)
                    have KT : ∀ y : Sub wq24, Hid (Tabs y.val) := fun y => hide (HT.out.keep (HR.out.below.trans (y.below.mono HR.out.below.size)))
                    refine wp_region_sub (w0 := wq24) (by kernel_rfl) (by kernel_rfl) (Below.refl _ _).drew ?_
                    repeat (first | go_big_quiet_step ((first | (go_at_call 21; with_reducible exact sub_of _ (CP01 _).out) | (go_at_call 16; exact sub_of _ (K _ (KT _).out).out))) | quiet_step ((first | (go_at_call 21; with_reducible exact sub_of _ (CP01 _).out) | (go_at_call 16; exact sub_of _ (K _ (KT _).out).out))))
                    refine wpQuiet_nil ?_
                    rintro _ ⟨y, rfl⟩
                    go_wp2_with fail
                    go_ret
                    exact ⟨rfl, HR.out.below.trans (y.below.mono HR.out.below.size)⟩
            · skip
              go_wp2_with fail
              refine ((CP01 _).out).mono ?_
              rintro e wq25 ⟨rfl, hb⟩
              have HR := hide (HR.out.keep hb)
              clear hb c0 c1 c2 c3 c4 c5 c6 c7 c8 c9 c10 c11
              obtain ⟨_, c0, c1⟩ := HR.out.cl (b7) a0_0 a0_1 (by simp)
              obtain ⟨_, c2, c3⟩ := HR.out.cl (b8) a1_0 a1_1 (by simp)
              obtain ⟨_, c4, c5⟩ := HR.out.cl (b9) a2_0 a2_1 (by simp)
              obtain ⟨_, c6, c7⟩ := HR.out.cl (w.heap.size) a0_0 a0_1 (by simp)
              obtain ⟨_, c8, c9⟩ := HR.out.cl (w.heap.size + 1) a1_0 a1_1 (by simp)
              obtain ⟨_, c10, c11⟩ := HR.out.cl (w.heap.size + 1 + 1) a2_0 a2_1 (by simp)
              by_cases hz : C1 = 0
              · obtain ⟨g1, g2⟩ := (FZ.out (by first | rfl | trivial) (by first | rfl | trivial)).1 hz
                have q0 := beq_iff_eq.2 hz
                have q1 := beq_iff_eq.2 g1
                have q2 := beq_iff_eq.2 g2
                clear hz g1 g2
                go_upto_region 12 with fail
                clear c0 c1 c2 c3 c4 c5 c6 c7 c8 c9 c10 c11
                have k0 : ∀ z : Sub wq25, z.val.cell? ⟨b7, 0, none⟩ = some (Value.int .i64 a0_0) := fun z => (((HR.out.keep z.below).cl (b7) a0_0 a0_1 (by simp)).2.1)
                have k1 : ∀ z : Sub wq25, z.val.cell? ⟨b7, 1, none⟩ = some (Value.int .i64 a0_1) := fun z => (((HR.out.keep z.below).cl (b7) a0_0 a0_1 (by simp)).2.2)
                have k2 : ∀ z : Sub wq25, z.val.cell? ⟨b8, 0, none⟩ = some (Value.int .i64 a1_0) := fun z => (((HR.out.keep z.below).cl (b8) a1_0 a1_1 (by simp)).2.1)
                have k3 : ∀ z : Sub wq25, z.val.cell? ⟨b8, 1, none⟩ = some (Value.int .i64 a1_1) := fun z => (((HR.out.keep z.below).cl (b8) a1_0 a1_1 (by simp)).2.2)
                have k4 : ∀ z : Sub wq25, z.val.cell? ⟨b9, 0, none⟩ = some (Value.int .i64 a2_0) := fun z => (((HR.out.keep z.below).cl (b9) a2_0 a2_1 (by simp)).2.1)
                have k5 : ∀ z : Sub wq25, z.val.cell? ⟨b9, 1, none⟩ = some (Value.int .i64 a2_1) := fun z => (((HR.out.keep z.below).cl (b9) a2_0 a2_1 (by simp)).2.2)
                have k6 : ∀ z : Sub wq25, z.val.cell? ⟨w.heap.size, 0, none⟩ = some (Value.int .i64 a0_0) := fun z => (((HR.out.keep z.below).cl (w.heap.size) a0_0 a0_1 (by simp)).2.1)
                have k7 : ∀ z : Sub wq25, z.val.cell? ⟨w.heap.size, 1, none⟩ = some (Value.int .i64 a0_1) := fun z => (((HR.out.keep z.below).cl (w.heap.size) a0_0 a0_1 (by simp)).2.2)
                have k8 : ∀ z : Sub wq25, z.val.cell? ⟨w.heap.size + 1, 0, none⟩ = some (Value.int .i64 a1_0) := fun z => (((HR.out.keep z.below).cl (w.heap.size + 1) a1_0 a1_1 (by simp)).2.1)
                have k9 : ∀ z : Sub wq25, z.val.cell? ⟨w.heap.size + 1, 1, none⟩ = some (Value.int .i64 a1_1) := fun z => (((HR.out.keep z.below).cl (w.heap.size + 1) a1_0 a1_1 (by simp)).2.2)
                have k10 : ∀ z : Sub wq25, z.val.cell? ⟨w.heap.size + 1 + 1, 0, none⟩ = some (Value.int .i64 a2_0) := fun z => (((HR.out.keep z.below).cl (w.heap.size + 1 + 1) a2_0 a2_1 (by simp)).2.1)
                have k11 : ∀ z : Sub wq25, z.val.cell? ⟨w.heap.size + 1 + 1, 1, none⟩ = some (Value.int .i64 a2_1) := fun z => (((HR.out.keep z.below).cl (w.heap.size + 1 + 1) a2_0 a2_1 (by simp)).2.2)
                have KT : ∀ y : Sub wq25, Hid (Tabs y.val) := fun y => hide (HT.out.keep (HR.out.below.trans (y.below.mono HR.out.below.size)))
                refine wp_region_sub (w0 := wq25) (by kernel_rfl) (by kernel_rfl) (Below.refl _ _).drew ?_
                repeat (first | go_big_quiet_step ((first | (go_at_call 21; with_reducible exact sub_of _ (CP01 _).out) | (go_at_call 16; exact sub_of _ (K _ (KT _).out).out))) | quiet_step ((first | (go_at_call 21; with_reducible exact sub_of _ (CP01 _).out) | (go_at_call 16; exact sub_of _ (K _ (KT _).out).out))))
                refine wpQuiet_nil ?_
                rintro _ ⟨y, rfl⟩
                go_wp2_with fail
                go_ret
                exact ⟨rfl, HR.out.below.trans (y.below.mono HR.out.below.size)⟩
              · have q0 : (C1 == 0) = false := by simpa using hz
                have hn := fun h => hz ((FZ.out (by first | rfl | trivial) (by first | rfl | trivial)).2 h)
                by_cases g1 : a0_0 = a1_0
                · have q2 : (a0_1 == a1_1) = false := by simpa using fun h => hn ⟨g1, h⟩
                  have q1 := beq_iff_eq.2 g1
                  clear hz g1 hn
                  go_upto_region 12 with fail
                  clear c0 c1 c2 c3 c4 c5 c6 c7 c8 c9 c10 c11
                  have k0 : ∀ z : Sub wq25, z.val.cell? ⟨b7, 0, none⟩ = some (Value.int .i64 a0_0) := fun z => (((HR.out.keep z.below).cl (b7) a0_0 a0_1 (by simp)).2.1)
                  have k1 : ∀ z : Sub wq25, z.val.cell? ⟨b7, 1, none⟩ = some (Value.int .i64 a0_1) := fun z => (((HR.out.keep z.below).cl (b7) a0_0 a0_1 (by simp)).2.2)
                  have k2 : ∀ z : Sub wq25, z.val.cell? ⟨b8, 0, none⟩ = some (Value.int .i64 a1_0) := fun z => (((HR.out.keep z.below).cl (b8) a1_0 a1_1 (by simp)).2.1)
                  have k3 : ∀ z : Sub wq25, z.val.cell? ⟨b8, 1, none⟩ = some (Value.int .i64 a1_1) := fun z => (((HR.out.keep z.below).cl (b8) a1_0 a1_1 (by simp)).2.2)
                  have k4 : ∀ z : Sub wq25, z.val.cell? ⟨b9, 0, none⟩ = some (Value.int .i64 a2_0) := fun z => (((HR.out.keep z.below).cl (b9) a2_0 a2_1 (by simp)).2.1)
                  have k5 : ∀ z : Sub wq25, z.val.cell? ⟨b9, 1, none⟩ = some (Value.int .i64 a2_1) := fun z => (((HR.out.keep z.below).cl (b9) a2_0 a2_1 (by simp)).2.2)
                  have k6 : ∀ z : Sub wq25, z.val.cell? ⟨w.heap.size, 0, none⟩ = some (Value.int .i64 a0_0) := fun z => (((HR.out.keep z.below).cl (w.heap.size) a0_0 a0_1 (by simp)).2.1)
                  have k7 : ∀ z : Sub wq25, z.val.cell? ⟨w.heap.size, 1, none⟩ = some (Value.int .i64 a0_1) := fun z => (((HR.out.keep z.below).cl (w.heap.size) a0_0 a0_1 (by simp)).2.2)
                  have k8 : ∀ z : Sub wq25, z.val.cell? ⟨w.heap.size + 1, 0, none⟩ = some (Value.int .i64 a1_0) := fun z => (((HR.out.keep z.below).cl (w.heap.size + 1) a1_0 a1_1 (by simp)).2.1)
                  have k9 : ∀ z : Sub wq25, z.val.cell? ⟨w.heap.size + 1, 1, none⟩ = some (Value.int .i64 a1_1) := fun z => (((HR.out.keep z.below).cl (w.heap.size + 1) a1_0 a1_1 (by simp)).2.2)
                  have k10 : ∀ z : Sub wq25, z.val.cell? ⟨w.heap.size + 1 + 1, 0, none⟩ = some (Value.int .i64 a2_0) := fun z => (((HR.out.keep z.below).cl (w.heap.size + 1 + 1) a2_0 a2_1 (by simp)).2.1)
                  have k11 : ∀ z : Sub wq25, z.val.cell? ⟨w.heap.size + 1 + 1, 1, none⟩ = some (Value.int .i64 a2_1) := fun z => (((HR.out.keep z.below).cl (w.heap.size + 1 + 1) a2_0 a2_1 (by simp)).2.2)
                  have KT : ∀ y : Sub wq25, Hid (Tabs y.val) := fun y => hide (HT.out.keep (HR.out.below.trans (y.below.mono HR.out.below.size)))
                  refine wp_region_sub (w0 := wq25) (by kernel_rfl) (by kernel_rfl) (Below.refl _ _).drew ?_
                  repeat (first | go_big_quiet_step ((first | (go_at_call 21; with_reducible exact sub_of _ (CP01 _).out) | (go_at_call 16; exact sub_of _ (K _ (KT _).out).out))) | quiet_step ((first | (go_at_call 21; with_reducible exact sub_of _ (CP01 _).out) | (go_at_call 16; exact sub_of _ (K _ (KT _).out).out))))
                  refine wpQuiet_nil ?_
                  rintro _ ⟨y, rfl⟩
                  go_wp2_with fail
                  go_ret
                  exact ⟨rfl, HR.out.below.trans (y.below.mono HR.out.below.size)⟩
                · have q1 : (a0_0 == a1_0) = false := by simpa using g1
                  clear hz g1 hn
                  go_upto_region 12 with fail
                  clear c0 c1 c2 c3 c4 c5 c6 c7 c8 c9 c10 c11
                  have k0 : ∀ z : Sub wq25, z.val.cell? ⟨b7, 0, none⟩ = some (Value.int .i64 a0_0) := fun z => (((HR.out.keep z.below).cl (b7) a0_0 a0_1 (by simp)).2.1)
                  have k1 : ∀ z : Sub wq25, z.val.cell? ⟨b7, 1, none⟩ = some (Value.int .i64 a0_1) := fun z => (((HR.out.keep z.below).cl (b7) a0_0 a0_1 (by simp)).2.2)
                  have k2 : ∀ z : Sub wq25, z.val.cell? ⟨b8, 0, none⟩ = some (Value.int .i64 a1_0) := fun z => (((HR.out.keep z.below).cl (b8) a1_0 a1_1 (by simp)).2.1)
                  have k3 : ∀ z : Sub wq25, z.val.cell? ⟨b8, 1, none⟩ = some (Value.int .i64 a1_1) := fun z => (((HR.out.keep z.below).cl (b8) a1_0 a1_1 (by simp)).2.2)
                  have k4 : ∀ z : Sub wq25, z.val.cell? ⟨b9, 0, none⟩ = some (Value.int .i64 a2_0) := fun z => (((HR.out.keep z.below).cl (b9) a2_0 a2_1 (by simp)).2.1)
                  have k5 : ∀ z : Sub wq25, z.val.cell? ⟨b9, 1, none⟩ = some (Value.int .i64 a2_1) := fun z => (((HR.out.keep z.below).cl (b9) a2_0 a2_1 (by simp)).2.2)
                  have k6 : ∀ z : Sub wq25, z.val.cell? ⟨w.heap.size, 0, none⟩ = some (Value.int .i64 a0_0) := fun z => (((HR.out.keep z.below).cl (w.heap.size) a0_0 a0_1 (by simp)).2.1)
                  have k7 : ∀ z : Sub wq25, z.val.cell? ⟨w.heap.size, 1, none⟩ = some (Value.int .i64 a0_1) := fun z => (((HR.out.keep z.below).cl (w.heap.size) a0_0 a0_1 (by simp)).2.2)
                  have k8 : ∀ z : Sub wq25, z.val.cell? ⟨w.heap.size + 1, 0, none⟩ = some (Value.int .i64 a1_0) := fun z => (((HR.out.keep z.below).cl (w.heap.size + 1) a1_0 a1_1 (by simp)).2.1)
                  have k9 : ∀ z : Sub wq25, z.val.cell? ⟨w.heap.size + 1, 1, none⟩ = some (Value.int .i64 a1_1) := fun z => (((HR.out.keep z.below).cl (w.heap.size + 1) a1_0 a1_1 (by simp)).2.2)
                  have k10 : ∀ z : Sub wq25, z.val.cell? ⟨w.heap.size + 1 + 1, 0, none⟩ = some (Value.int .i64 a2_0) := fun z => (((HR.out.keep z.below).cl (w.heap.size + 1 + 1) a2_0 a2_1 (by simp)).2.1)
                  have k11 : ∀ z : Sub wq25, z.val.cell? ⟨w.heap.size + 1 + 1, 1, none⟩ = some (Value.int .i64 a2_1) := fun z => (((HR.out.keep z.below).cl (w.heap.size + 1 + 1) a2_0 a2_1 (by simp)).2.2)
                  have KT : ∀ y : Sub wq25, Hid (Tabs y.val) := fun y => hide (HT.out.keep (HR.out.below.trans (y.below.mono HR.out.below.size)))
                  refine wp_region_sub (w0 := wq25) (by kernel_rfl) (by kernel_rfl) (Below.refl _ _).drew ?_
                  repeat (first | go_big_quiet_step ((first | (go_at_call 21; with_reducible exact sub_of _ (CP01 _).out) | (go_at_call 16; exact sub_of _ (K _ (KT _).out).out))) | quiet_step ((first | (go_at_call 21; with_reducible exact sub_of _ (CP01 _).out) | (go_at_call 16; exact sub_of _ (K _ (KT _).out).out))))
                  refine wpQuiet_nil ?_
                  rintro _ ⟨y, rfl⟩
                  go_wp2_with fail
                  go_ret
                  exact ⟨rfl, HR.out.below.trans (y.below.mono HR.out.below.size)⟩
          · have e1 : (E2 == 0) = false := by simpa using h2
            have e2 : (E2 != 0) = true := by simpa using h2
            go_wp2_with fail
            refine ((K2 _).out).mono ?_
            rintro e wq26 ⟨rfl, hb⟩
            have HR := hide (HR.out.keep hb)
            clear hb c0 c1 c2 c3 c4 c5 c6 c7 c8 c9 c10 c11
            obtain ⟨_, c0, c1⟩ := HR.out.cl (b7) a0_0 a0_1 (by simp)
            obtain ⟨_, c2, c3⟩ := HR.out.cl (b8) a1_0 a1_1 (by simp)
            obtain ⟨_, c4, c5⟩ := HR.out.cl (b9) a2_0 a2_1 (by simp)
            obtain ⟨_, c6, c7⟩ := HR.out.cl (w.heap.size) a0_0 a0_1 (by simp)
            obtain ⟨_, c8, c9⟩ := HR.out.cl (w.heap.size + 1) a1_0 a1_1 (by simp)
            obtain ⟨_, c10, c11⟩ := HR.out.cl (w.heap.size + 1 + 1) a2_0 a2_1 (by simp)
            go_wp2_with fail
            refine (K _ (HT.out.keep HR.out.below) |>.out).mono ?_
            rintro e wq27 ⟨rfl, hb⟩
            have HR := hide (HR.out.keep hb)
            clear hb c0 c1 c2 c3 c4 c5 c6 c7 c8 c9 c10 c11
            go_wp2_with fail
            go_ret
            exact ⟨rfl, HR.out.below⟩
        · have e1 : (E1 == 0) = false := by simpa using h1
          have e2 : (E1 != 0) = true := by simpa using h1
          go_wp2_with fail
          refine ((K1 _).out).mono ?_
          rintro e wq28 ⟨rfl, hb⟩
          have HR := hide (HR.out.keep hb)
          clear hb c0 c1 c2 c3 c4 c5 c6 c7 c8 c9 c10 c11
          obtain ⟨_, c0, c1⟩ := HR.out.cl (b7) a0_0 a0_1 (by simp)
          obtain ⟨_, c2, c3⟩ := HR.out.cl (b8) a1_0 a1_1 (by simp)
          obtain ⟨_, c4, c5⟩ := HR.out.cl (b9) a2_0 a2_1 (by simp)
          obtain ⟨_, c6, c7⟩ := HR.out.cl (w.heap.size) a0_0 a0_1 (by simp)
          obtain ⟨_, c8, c9⟩ := HR.out.cl (w.heap.size + 1) a1_0 a1_1 (by simp)
          obtain ⟨_, c10, c11⟩ := HR.out.cl (w.heap.size + 1 + 1) a2_0 a2_1 (by simp)
          go_wp2_with fail
          refine (K _ (HT.out.keep HR.out.below) |>.out).mono ?_
          rintro e wq29 ⟨rfl, hb⟩
          have HR := hide (HR.out.keep hb)
          clear hb c0 c1 c2 c3 c4 c5 c6 c7 c8 c9 c10 c11
          go_wp2_with fail
          go_ret
          exact ⟨rfl, HR.out.below⟩
      · have e1 : (E0 == 0) = false := by simpa using h0
        have e2 : (E0 != 0) = true := by simpa using h0
        go_wp2_with fail
        refine ((K0 _).out).mono ?_
        rintro e wq30 ⟨rfl, hb⟩
        have HR := hide (HR.out.keep hb)
        clear hb c0 c1 c2 c3 c4 c5 c6 c7 c8 c9 c10 c11
        obtain ⟨_, c0, c1⟩ := HR.out.cl (b7) a0_0 a0_1 (by simp)
        obtain ⟨_, c2, c3⟩ := HR.out.cl (b8) a1_0 a1_1 (by simp)
        obtain ⟨_, c4, c5⟩ := HR.out.cl (b9) a2_0 a2_1 (by simp)
        obtain ⟨_, c6, c7⟩ := HR.out.cl (w.heap.size) a0_0 a0_1 (by simp)
        obtain ⟨_, c8, c9⟩ := HR.out.cl (w.heap.size + 1) a1_0 a1_1 (by simp)
        obtain ⟨_, c10, c11⟩ := HR.out.cl (w.heap.size + 1 + 1) a2_0 a2_1 (by simp)
        go_wp2_with fail
        refine (K _ (HT.out.keep HR.out.below) |>.out).mono ?_
        rintro e wq31 ⟨rfl, hb⟩
        have HR := hide (HR.out.keep hb)
        clear hb c0 c1 c2 c3 c4 c5 c6 c7 c8 c9 c10 c11
        go_wp2_with fail
        go_ret
        exact ⟨rfl, HR.out.below⟩
end Go.Proofs.YtmdgjgeblplhpaaDoor
