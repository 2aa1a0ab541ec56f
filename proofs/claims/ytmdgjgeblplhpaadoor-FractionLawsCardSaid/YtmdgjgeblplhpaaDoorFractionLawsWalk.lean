/-
  The walk of FractionLaws.
-/
import Derived.Test.YtmdgjgeblplhpaaDoorFrC
import Derived.Test.YtmdgjgeblplhpaaDoorFr20
import Derived.Test.YtmdgjgeblplhpaaDoorCl
import Derived.Deep.CutBlock
import Derived.Deep.DeepCutAuto
namespace Go.Proofs.YtmdgjgeblplhpaaDoor
open Go.RowKit
set_option linter.unusedVariables false
set_option linter.unusedSimpArgs false

/-- What the laws say of one operation. -/
structure Lw (k n1 d1 n2 d2 n3 d3 : Int) : Prop where
  ce : cbE k n2 d2 n1 d1 = cbE k n1 d1 n2 d2
  cn : cbN k n2 d2 n1 d1 = cbN k n1 d1 n2 d2
  cd : cbD k n2 d2 n1 d1 = cbD k n1 d1 n2 d2
  i1 : cbE k n1 d1 n2 d2 = 0 → I64 (cbN k n1 d1 n2 d2) ∧ I64 (cbD k n1 d1 n2 d2)
  i2 : cbE k n2 d2 n3 d3 = 0 → I64 (cbN k n2 d2 n3 d3) ∧ I64 (cbD k n2 d2 n3 d3)
  asc : cbE k n1 d1 n2 d2 = 0 → cbE k n2 d2 n3 d3 = 0 → cbE k n1 d1 (cbN k n2 d2 n3 d3) (cbD k n2 d2 n3 d3) = cbE k (cbN k n1 d1 n2 d2) (cbD k n1 d1 n2 d2) n3 d3 ∧
    cbN k n1 d1 (cbN k n2 d2 n3 d3) (cbD k n2 d2 n3 d3) = cbN k (cbN k n1 d1 n2 d2) (cbD k n1 d1 n2 d2) n3 d3 ∧ cbD k n1 d1 (cbN k n2 d2 n3 d3) (cbD k n2 d2 n3 d3) = cbD k (cbN k n1 d1 n2 d2) (cbD k n1 d1 n2 d2) n3 d3
  bk : cbE k n1 d1 n2 d2 = 0 → k = 0 ∨ n2 ≠ 0 → cbE (k + 1) (cbN k n1 d1 n2 d2) (cbD k n1 d1 n2 d2) n2 d2 = 0 ∧ cbN (k + 1) (cbN k n1 d1 n2 d2) (cbD k n1 d1 n2 d2) n2 d2 = n1 ∧ cbD (k + 1) (cbN k n1 d1 n2 d2) (cbD k n1 d1 n2 d2) n2 d2 = d1
theorem lw_of {k n1 d1 n2 d2 n3 d3 : Int} (ho : k = 0 ∨ k = 2) (h1 : ckE n1 d1 = 0) (h2 : ckE n2 d2 = 0) (h3 : ckE n3 d3 = 0) : Lw k n1 d1 n2 d2 n3 d3 := by
  obtain ⟨c1, c2, c3⟩ := cb_comm ho h1 h2
  have rng : ∀ a b : Int, ckE a b = 0 → I64 a ∧ I64 b := fun a b h => by
    obtain ⟨x1, x2, x3, x4, _⟩ := ck_ok h
    unfold I64; omega
  refine ⟨c1.symm, c2.symm, c3.symm, fun e => rng _ _ (cb_val h1 h2 e).2.1, fun e => rng _ _ (cb_val h2 h3 e).2.1, fun e g => ?_, fun e z => cb_back ho h1 h2 e z⟩
  obtain ⟨x, y, z⟩ := cb_assoc ho h1 h2 h3 e g
  exact ⟨x.symm, y.symm, z.symm⟩

/-- What stays as it was: all of the world of the call, and the blocks of the list. -/
structure RK (w : World) (L : List (Nat × Int × Int)) (m : Nat) (wx : World) : Prop where
  below : Below w.heap.size w wx
  size : m ≤ wx.heap.size
  cl : Cl L wx
theorem RK.keep {w wx wy : World} {L : List (Nat × Int × Int)} {m : Nat} (h : RK w L m wx) (hb : Below wx.heap.size wx wy) : RK w L m wy :=
  ⟨h.below.trans (hb.mono h.below.size), Nat.le_trans h.size hb.size, h.cl.keep hb⟩
theorem RK.push {w wy : World} {L : List (Nat × Int × Int)} {m : Nat} {N D : Int} (h : RK w L m wy) : RK w ((wy.heap.size, N, D) :: L) m (wy.alloc (Obj.cells #[Value.int IntKind.i64 N, Value.int IntKind.i64 D] 23)) := by
  have z := h.size
  exact ⟨h.below.alloc h.below.size _, by simp; omega, (h.cl.keep ((Below.refl _ _).alloc (Nat.le_refl _) _)).cons (by simp) (by simp [go_sem]) (by simp [go_sem])⟩
theorem alloc1 (w : World) (o : Obj) : Below w.heap.size w (w.alloc o) := (Below.refl _ _).alloc (Nat.le_refl _) _
theorem RK.sub {w wy : World} {L L1 : List (Nat × Int × Int)} {m : Nat} (h : RK w L m wy) (hs : ∀ x ∈ L1, x ∈ L) : RK w L1 m wy :=
  ⟨h.below, h.size, fun b x y hm => h.cl b x y (hs _ hm)⟩

set_option maxHeartbeats 8000000 in
set_option maxRecDepth 20000 in
theorem fractionLaws_walk (a0_0 a0_1 : Int) (a1_0 a1_1 : Int) (a2_0 a2_1 : Int) (w : World) (w0_0 : (Lit.int .i64 a0_0).wf = true) (w0_1 : (Lit.int .i64 a0_1).wf = true) (w1_0 : (Lit.int .i64 a1_0).wf = true) (w1_1 : (Lit.int .i64 a1_1).wf = true) (w2_0 : (Lit.int .i64 a2_0).wf = true) (w2_1 : (Lit.int .i64 a2_1).wf = true) (hL : laidMetH Tryd.prog laid w) :
    Calls Tryd.prog 6 #[.agg #[.int .i64 a0_0, .int .i64 a0_1], .agg #[.int .i64 a1_0, .int .i64 a1_1], .agg #[.int .i64 a2_0, .int .i64 a2_1]] w fun e w' => e = .returned (.bool true) ∧ Below w.heap.size w w' := by
  have HT := hide (tabs_of hL)
  clear hL
  have i0 := wf64 w0_0
  have i1 := wf64 w0_1
  have i2 := wf64 w1_0
  have i3 := wf64 w1_1
  have i4 := wf64 w2_0
  have i5 := wf64 w2_1
  have K := fun w T => hide (known_any w T)
  have K0 := fun w => hide (check_any a0_0 a0_1 w i0.1 i0.2 i1.1 i1.2)
  have K1 := fun w => hide (check_any a1_0 a1_1 w i2.1 i2.2 i3.1 i3.2)
  have K2 := fun w => hide (check_any a2_0 a2_1 w i4.1 i4.2 i5.1 i5.2)
  have CM := fun k n1 d1 n2 d2 k0 k1 x1 x2 x3 x4 w => hide (comb_any k n1 d1 n2 d2 w k0 k1 x1 x2 x3 x4)
  have LW := fun k ho (h1 : ckE a0_0 a0_1 = 0) (h2 : ckE a1_0 a1_1 = 0) (h3 : ckE a2_0 a2_1 = 0) => hide (lw_of (k := k) ho h1 h2 h3)
  have J0 := hide i0
  have J1 := hide i1
  have J2 := hide i2
  have J3 := hide i3
  have J4 := hide i4
  have J5 := hide i5
  clear w0_0 w0_1 w1_0 w1_1 w2_0 w2_1 i0 i1 i2 i3 i4 i5
  generalize ckE a0_0 a0_1 = E0 at *
  generalize ckE a1_0 a1_1 = E1 at *
  generalize ckE a2_0 a2_1 = E2 at *
  go_enter Tryd.func6, Tryd.ntmps6
  go_upto_region 1 with fail
  have HRC := hide (show RC w [(w.heap.size, a0_0, a0_1), (w.heap.size + 1, a1_0, a1_1), (w.heap.size + 1 + 1, a2_0, a2_1)] (w.heap.size + 3) (((w.alloc (Obj.cells #[Value.int IntKind.i64 a0_0, Value.int IntKind.i64 a0_1] 27)).alloc (Obj.cells #[Value.int IntKind.i64 a1_0, Value.int IntKind.i64 a1_1] 27)).alloc (Obj.cells #[Value.int IntKind.i64 a2_0, Value.int IntKind.i64 a2_1] 27)) from by
    refine ⟨((((Below.refl w.heap.size w).alloc (Nat.le_refl _) _).alloc (by simp) _).alloc (by simp; omega) _), by simp, by omega, ?_, ?_⟩
    · intro b x y hm
      simp only [List.mem_cons, List.not_mem_nil, or_false, Prod.mk.injEq] at hm
      rcases hm with ⟨rfl, rfl, rfl⟩ | ⟨rfl, rfl, rfl⟩ | ⟨rfl, rfl, rfl⟩ <;> refine ⟨by simp <;> omega, by simp [go_sem], by simp [go_sem]⟩
    · intro b x y hm
      simp only [List.mem_cons, List.not_mem_nil, or_false, Prod.mk.injEq] at hm
      rcases hm with ⟨rfl, rfl, rfl⟩ | ⟨rfl, rfl, rfl⟩ | ⟨rfl, rfl, rfl⟩ <;> omega)
  refine wp_region_inv (I := fun f a wx => ∃ (vL0 vC0 vL1 vC1 vL2 vC2 v7 v8 v9 : Value) (b7 b8 b9 : Nat) (x7 y7 x8 y8 x9 y9 : Int), a = { tmps := #[Value.agg #[Value.int IntKind.i64 a0_0, Value.int IntKind.i64 a0_1], Value.agg #[Value.int IntKind.i64 a1_0, Value.int IntKind.i64 a1_1], Value.agg #[Value.int IntKind.i64 a2_0, Value.int IntKind.i64 a2_1], Value.pointer (some { block := w.heap.size, off := 0 }), Value.pointer (some { block := w.heap.size + 1, off := 0 }), Value.pointer (some { block := w.heap.size + 1 + 1, off := 0 }), Value.bool false, v7, v8, v9, undef, undef, undef, undef, undef, undef, undef, undef, undef, undef, undef, undef, undef, vL0, vC0, vL1, vC1, vL2, vC2, undef, undef, undef, undef, undef, undef, undef, undef, undef, undef, undef, undef, undef, undef, undef, undef, undef, undef, undef, undef, undef, undef, undef, undef, undef, undef, undef, undef, undef, undef, undef, undef, undef, undef, undef, undef, undef, undef, undef, undef, undef, undef, undef, undef, undef, undef, undef, undef, undef, undef, undef, undef, undef, undef, undef, undef, undef, undef, undef, undef, undef, undef, undef, undef, undef, undef, undef, undef, undef, undef, undef, undef, undef, undef, undef, undef, undef, undef, undef, undef, undef, undef, undef, undef, undef, undef, undef, undef, undef, undef, undef, undef, undef, undef, undef, undef, undef, undef, undef, undef, undef, undef], defers := [] } ∧ Hid (RC w [(w.heap.size, a0_0, a0_1), (w.heap.size + 1, a1_0, a1_1), (w.heap.size + 1 + 1, a2_0, a2_1)] (w.heap.size + 3) wx) ∧ Hid (f 0 = true → vL0 = Value.agg #[Value.int IntKind.i64 a0_0, Value.int IntKind.i64 a0_1]) ∧ Hid (f 1 = true → vC0 = Value.agg #[Value.int IntKind.i64 a0_0, Value.int IntKind.i64 a0_1]) ∧ Hid (f 2 = true → vL1 = Value.agg #[Value.int IntKind.i64 a1_0, Value.int IntKind.i64 a1_1]) ∧ Hid (f 3 = true → vC1 = Value.agg #[Value.int IntKind.i64 a1_0, Value.int IntKind.i64 a1_1]) ∧ Hid (f 4 = true → vL2 = Value.agg #[Value.int IntKind.i64 a2_0, Value.int IntKind.i64 a2_1]) ∧ Hid (f 5 = true → vC2 = Value.agg #[Value.int IntKind.i64 a2_0, Value.int IntKind.i64 a2_1]) ∧ Hid (f 6 = true → v7 = Value.pointer (some { block := b7, off := 0 }) ∧ FB (w.heap.size + 3) b7 x7 y7 wx ∧ (f 9 = true → x7 = a0_0 ∧ y7 = a0_1)) ∧ Hid (f 7 = true → v8 = Value.pointer (some { block := b8, off := 0 }) ∧ FB (w.heap.size + 3) b8 x8 y8 wx ∧ (f 10 = true → x8 = a1_0 ∧ y8 = a1_1)) ∧ Hid (f 8 = true → v9 = Value.pointer (some { block := b9, off := 0 }) ∧ FB (w.heap.size + 3) b9 x9 y9 wx ∧ (f 11 = true → x9 = a2_0 ∧ y9 = a2_1)) ∧ Hid (f 6 = true → f 7 = true → b7 ≠ b8) ∧ Hid (f 6 = true → f 8 = true → b7 ≠ b9) ∧ Hid (f 7 = true → f 8 = true → b8 ≠ b9) ∧ Hid (f 9 = true → f 6 = true) ∧ Hid (f 10 = true → f 7 = true) ∧ Hid (f 11 = true → f 8 = true)) (by kernel_rfl) (by kernel_rfl) ?_ ?_ ?_
  · exact ⟨_, _, _, _, _, _, _, _, _, 0, 0, 0, 0, 0, 0, 0, 0, 0, rfl, hide (HRC.out.keep ((Below.refl _ _).drew)), hide (fun h => Bool.noConfusion h), hide (fun h => Bool.noConfusion h), hide (fun h => Bool.noConfusion h), hide (fun h => Bool.noConfusion h), hide (fun h => Bool.noConfusion h), hide (fun h => Bool.noConfusion h), hide (fun h => Bool.noConfusion h), hide (fun h => Bool.noConfusion h), hide (fun h => Bool.noConfusion h), hide (fun h => Bool.noConfusion h), hide (fun h => Bool.noConfusion h), hide (fun h => Bool.noConfusion h), hide (fun h => Bool.noConfusion h), hide (fun h => Bool.noConfusion h), hide (fun h => Bool.noConfusion h)⟩
  · intro i hi f a wx hfi hB hI
    obtain ⟨vL0, vC0, vL1, vC1, vL2, vC2, v7, v8, v9, b7, b8, b9, x7, y7, x8, y8, x9, y9, rfl, HW, F0, F1, F2, F3, F4, F5, A7, A8, A9, D0, D1, D2, R0, R1, R2⟩ := hI
    clear HRC
    have hi12 : i < 12 := hi
    have hi3 : i = 0 ∨ i = 1 ∨ i = 2 ∨ i = 3 ∨ i = 4 ∨ i = 5 ∨ i = 6 ∨ i = 7 ∨ i = 8 ∨ i = 9 ∨ i = 10 ∨ i = 11 := by omega
    clear hi hi12
    rcases hi3 with rfl | rfl | rfl | rfl | rfl | rfl | rfl | rfl | rfl | rfl | rfl | rfl
    · skip
      refine wpOp_list' (o := _) rfl (fun K hK => ?_)
      obtain ⟨_, c0, c1⟩ := HW.out.cl (w.heap.size) a0_0 a0_1 (by simp)
      go_wp2_with fail
      exact hK.out _ _ ⟨_, _, _, _, _, _, _, _, _, b7, b8, b9, x7, y7, x8, y8, x9, y9, rfl, HW, hide (fun _ => rfl), F1, F2, F3, F4, F5, A7, A8, A9, D0, D1, D2, R0, R1, R2⟩
    · skip
      have d := F0.out (hB.dep 0 (by kernel_rfl))
      subst d
      refine wpOp_list' (o := _) rfl (fun K hK => ?_)
      go_wp2_with fail
      refine (from_any _ _ _).mono ?_
      rintro e wy ⟨rfl, hb⟩
      have HW := hide (HW.out.keep hb)
      have A7 := hide (fun h => And.intro (A7.out h).1 (And.intro ((A7.out h).2.1.keep hb) (A7.out h).2.2))
      have A8 := hide (fun h => And.intro (A8.out h).1 (And.intro ((A8.out h).2.1.keep hb) (A8.out h).2.2))
      have A9 := hide (fun h => And.intro (A9.out h).1 (And.intro ((A9.out h).2.1.keep hb) (A9.out h).2.2))
      go_wp2_with fail
      exact hK.out _ _ ⟨_, _, _, _, _, _, _, _, _, b7, b8, b9, x7, y7, x8, y8, x9, y9, rfl, HW, hide (fun _ => rfl), hide (fun _ => rfl), F2, F3, F4, F5, A7, A8, A9, D0, D1, D2, R0, R1, R2⟩
    · skip
      refine wpOp_list' (o := _) rfl (fun K hK => ?_)
      obtain ⟨_, c0, c1⟩ := HW.out.cl (w.heap.size + 1) a1_0 a1_1 (by simp)
      go_wp2_with fail
      exact hK.out _ _ ⟨_, _, _, _, _, _, _, _, _, b7, b8, b9, x7, y7, x8, y8, x9, y9, rfl, HW, F0, F1, hide (fun _ => rfl), F3, F4, F5, A7, A8, A9, D0, D1, D2, R0, R1, R2⟩
    · skip
      have d := F2.out (hB.dep 2 (by kernel_rfl))
      subst d
      refine wpOp_list' (o := _) rfl (fun K hK => ?_)
      go_wp2_with fail
      refine (from_any _ _ _).mono ?_
      rintro e wy ⟨rfl, hb⟩
      have HW := hide (HW.out.keep hb)
      have A7 := hide (fun h => And.intro (A7.out h).1 (And.intro ((A7.out h).2.1.keep hb) (A7.out h).2.2))
      have A8 := hide (fun h => And.intro (A8.out h).1 (And.intro ((A8.out h).2.1.keep hb) (A8.out h).2.2))
      have A9 := hide (fun h => And.intro (A9.out h).1 (And.intro ((A9.out h).2.1.keep hb) (A9.out h).2.2))
      go_wp2_with fail
      exact hK.out _ _ ⟨_, _, _, _, _, _, _, _, _, b7, b8, b9, x7, y7, x8, y8, x9, y9, rfl, HW, F0, F1, hide (fun _ => rfl), hide (fun _ => rfl), F4, F5, A7, A8, A9, D0, D1, D2, R0, R1, R2⟩
    · skip
      refine wpOp_list' (o := _) rfl (fun K hK => ?_)
      obtain ⟨_, c0, c1⟩ := HW.out.cl (w.heap.size + 1 + 1) a2_0 a2_1 (by simp)
      go_wp2_with fail
      exact hK.out _ _ ⟨_, _, _, _, _, _, _, _, _, b7, b8, b9, x7, y7, x8, y8, x9, y9, rfl, HW, F0, F1, F2, F3, hide (fun _ => rfl), F5, A7, A8, A9, D0, D1, D2, R0, R1, R2⟩
    · skip
      have d := F4.out (hB.dep 4 (by kernel_rfl))
      subst d
      refine wpOp_list' (o := _) rfl (fun K hK => ?_)
      go_wp2_with fail
      refine (from_any _ _ _).mono ?_
      rintro e wy ⟨rfl, hb⟩
      have HW := hide (HW.out.keep hb)
      have A7 := hide (fun h => And.intro (A7.out h).1 (And.intro ((A7.out h).2.1.keep hb) (A7.out h).2.2))
      have A8 := hide (fun h => And.intro (A8.out h).1 (And.intro ((A8.out h).2.1.keep hb) (A8.out h).2.2))
      have A9 := hide (fun h => And.intro (A9.out h).1 (And.intro ((A9.out h).2.1.keep hb) (A9.out h).2.2))
      go_wp2_with fail
      exact hK.out _ _ ⟨_, _, _, _, _, _, _, _, _, b7, b8, b9, x7, y7, x8, y8, x9, y9, rfl, HW, F0, F1, F2, F3, hide (fun _ => rfl), hide (fun _ => rfl), A7, A8, A9, D0, D1, D2, R0, R1, R2⟩
    · skip
      refine wpOp_list' (o := _) rfl (fun K hK => ?_)
      go_wp2_with fail
      have s2 := HW.out.size
      have HW := hide (HW.out.keep ((Below.refl _ _).alloc (Nat.le_refl _) (Obj.cells #[Value.int IntKind.i64 0, Value.int IntKind.i64 0] 23)))
      have B8 := hide (fun h => (A8.out h).2.1.hi)
      have A8 := hide (fun h => And.intro (A8.out h).1 (And.intro ((A8.out h).2.1.keep ((Below.refl _ _).alloc (Nat.le_refl _) (Obj.cells #[Value.int IntKind.i64 0, Value.int IntKind.i64 0] 23))) (A8.out h).2.2))
      have B9 := hide (fun h => (A9.out h).2.1.hi)
      have A9 := hide (fun h => And.intro (A9.out h).1 (And.intro ((A9.out h).2.1.keep ((Below.refl _ _).alloc (Nat.le_refl _) (Obj.cells #[Value.int IntKind.i64 0, Value.int IntKind.i64 0] 23))) (A9.out h).2.2))
      exact hK.out _ _ ⟨_, _, _, _, _, _, _, _, _, wx.heap.size, b8, b9, 0, 0, x8, y8, x9, y9, rfl, HW, F0, F1, F2, F3, F4, F5, hide (fun _ => ⟨rfl, ⟨s2, by simp, by simp [go_sem], by simp [go_sem], by simp [go_sem], by simp [go_sem]⟩, fun h => by have := R0.out h; rw [hfi] at this; cases this⟩), A8, A9, hide (fun _ h => by have := B8.out h; omega), hide (fun _ h => by have := B9.out h; omega), D2, hide (fun _ => rfl), R1, R2⟩
    · skip
      refine wpOp_list' (o := _) rfl (fun K hK => ?_)
      go_wp2_with fail
      have s2 := HW.out.size
      have HW := hide (HW.out.keep ((Below.refl _ _).alloc (Nat.le_refl _) (Obj.cells #[Value.int IntKind.i64 0, Value.int IntKind.i64 0] 23)))
      have B7 := hide (fun h => (A7.out h).2.1.hi)
      have A7 := hide (fun h => And.intro (A7.out h).1 (And.intro ((A7.out h).2.1.keep ((Below.refl _ _).alloc (Nat.le_refl _) (Obj.cells #[Value.int IntKind.i64 0, Value.int IntKind.i64 0] 23))) (A7.out h).2.2))
      have B9 := hide (fun h => (A9.out h).2.1.hi)
      have A9 := hide (fun h => And.intro (A9.out h).1 (And.intro ((A9.out h).2.1.keep ((Below.refl _ _).alloc (Nat.le_refl _) (Obj.cells #[Value.int IntKind.i64 0, Value.int IntKind.i64 0] 23))) (A9.out h).2.2))
      exact hK.out _ _ ⟨_, _, _, _, _, _, _, _, _, b7, wx.heap.size, b9, x7, y7, 0, 0, x9, y9, rfl, HW, F0, F1, F2, F3, F4, F5, A7, hide (fun _ => ⟨rfl, ⟨s2, by simp, by simp [go_sem], by simp [go_sem], by simp [go_sem], by simp [go_sem]⟩, fun h => by have := R1.out h; rw [hfi] at this; cases this⟩), A9, hide (fun h _ => by have := B7.out h; omega), D1, hide (fun _ h => by have := B9.out h; omega), R0, hide (fun _ => rfl), R2⟩
    · skip
      refine wpOp_list' (o := _) rfl (fun K hK => ?_)
      go_wp2_with fail
      have s2 := HW.out.size
      have HW := hide (HW.out.keep ((Below.refl _ _).alloc (Nat.le_refl _) (Obj.cells #[Value.int IntKind.i64 0, Value.int IntKind.i64 0] 23)))
      have B7 := hide (fun h => (A7.out h).2.1.hi)
      have A7 := hide (fun h => And.intro (A7.out h).1 (And.intro ((A7.out h).2.1.keep ((Below.refl _ _).alloc (Nat.le_refl _) (Obj.cells #[Value.int IntKind.i64 0, Value.int IntKind.i64 0] 23))) (A7.out h).2.2))
      have B8 := hide (fun h => (A8.out h).2.1.hi)
      have A8 := hide (fun h => And.intro (A8.out h).1 (And.intro ((A8.out h).2.1.keep ((Below.refl _ _).alloc (Nat.le_refl _) (Obj.cells #[Value.int IntKind.i64 0, Value.int IntKind.i64 0] 23))) (A8.out h).2.2))
      exact hK.out _ _ ⟨_, _, _, _, _, _, _, _, _, b7, b8, wx.heap.size, x7, y7, x8, y8, 0, 0, rfl, HW, F0, F1, F2, F3, F4, F5, A7, A8, hide (fun _ => ⟨rfl, ⟨s2, by simp, by simp [go_sem], by simp [go_sem], by simp [go_sem], by simp [go_sem]⟩, fun h => by have := R2.out h; rw [hfi] at this; cases this⟩), D0, hide (fun h _ => by have := B7.out h; omega), hide (fun h _ => by have := B8.out h; omega), R0, R1, hide (fun _ => rfl)⟩
    · skip
      have h6 := hB.dep 6 (by kernel_rfl)
      have d := F1.out (hB.dep 1 (by kernel_rfl))
      subst d
      obtain ⟨rfl, fb, _⟩ := A7.out h6
      obtain ⟨lo, hi2, c0, c1, z0, z1⟩ := fb
      have H6 := hide h6
      clear h6
      refine wpOp_list' (o := _) rfl (fun K hK => ?_)
      go_wp2_with fail
      have HW := hide (HW.out.store (u := .int .i64 a0_0) (v := .int .i64 a0_1) lo)
      have A8 := hide (fun h => And.intro (A8.out h).1 (And.intro ((A8.out h).2.1.other (u := .int .i64 a0_0) (v := .int .i64 a0_1) (fun e => D0.out H6.out h e.symm)) (A8.out h).2.2))
      have A9 := hide (fun h => And.intro (A9.out h).1 (And.intro ((A9.out h).2.1.other (u := .int .i64 a0_0) (v := .int .i64 a0_1) (fun e => D1.out H6.out h e.symm)) (A9.out h).2.2))
      exact hK.out _ _ ⟨_, _, _, _, _, _, _, _, _, b7, b8, b9, a0_0, a0_1, x8, y8, x9, y9, rfl, HW, F0, hide (fun _ => rfl), F2, F3, F4, F5, hide (fun _ => ⟨rfl, FB.store ⟨lo, hi2, c0, c1, z0, z1⟩ _ _, fun _ => ⟨rfl, rfl⟩⟩), A8, A9, D0, D1, D2, hide (fun _ => H6.out), R1, R2⟩
    · skip
      have h6 := hB.dep 7 (by kernel_rfl)
      have d := F3.out (hB.dep 3 (by kernel_rfl))
      subst d
      obtain ⟨rfl, fb, _⟩ := A8.out h6
      obtain ⟨lo, hi2, c0, c1, z0, z1⟩ := fb
      have H6 := hide h6
      clear h6
      refine wpOp_list' (o := _) rfl (fun K hK => ?_)
      go_wp2_with fail
      have HW := hide (HW.out.store (u := .int .i64 a1_0) (v := .int .i64 a1_1) lo)
      have A7 := hide (fun h => And.intro (A7.out h).1 (And.intro ((A7.out h).2.1.other (u := .int .i64 a1_0) (v := .int .i64 a1_1) (D0.out h H6.out)) (A7.out h).2.2))
      have A9 := hide (fun h => And.intro (A9.out h).1 (And.intro ((A9.out h).2.1.other (u := .int .i64 a1_0) (v := .int .i64 a1_1) (fun e => D2.out H6.out h e.symm)) (A9.out h).2.2))
      exact hK.out _ _ ⟨_, _, _, _, _, _, _, _, _, b7, b8, b9, x7, y7, a1_0, a1_1, x9, y9, rfl, HW, F0, F1, F2, hide (fun _ => rfl), F4, F5, A7, hide (fun _ => ⟨rfl, FB.store ⟨lo, hi2, c0, c1, z0, z1⟩ _ _, fun _ => ⟨rfl, rfl⟩⟩), A9, D0, D1, D2, R0, hide (fun _ => H6.out), R2⟩
    · skip
      have h6 := hB.dep 8 (by kernel_rfl)
      have d := F5.out (hB.dep 5 (by kernel_rfl))
      subst d
      obtain ⟨rfl, fb, _⟩ := A9.out h6
      obtain ⟨lo, hi2, c0, c1, z0, z1⟩ := fb
      have H6 := hide h6
      clear h6
      refine wpOp_list' (o := _) rfl (fun K hK => ?_)
      go_wp2_with fail
      have HW := hide (HW.out.store (u := .int .i64 a2_0) (v := .int .i64 a2_1) lo)
      have A7 := hide (fun h => And.intro (A7.out h).1 (And.intro ((A7.out h).2.1.other (u := .int .i64 a2_0) (v := .int .i64 a2_1) (D1.out h H6.out)) (A7.out h).2.2))
      have A8 := hide (fun h => And.intro (A8.out h).1 (And.intro ((A8.out h).2.1.other (u := .int .i64 a2_0) (v := .int .i64 a2_1) (D2.out h H6.out)) (A8.out h).2.2))
      exact hK.out _ _ ⟨_, _, _, _, _, _, _, _, _, b7, b8, b9, x7, y7, x8, y8, a2_0, a2_1, rfl, HW, F0, F1, F2, F3, F4, hide (fun _ => rfl), A7, A8, hide (fun _ => ⟨rfl, FB.store ⟨lo, hi2, c0, c1, z0, z1⟩ _ _, fun _ => ⟨rfl, rfl⟩⟩), D0, D1, D2, R0, R1, hide (fun _ => H6.out)⟩
  · intro f a wx hall hI
    obtain ⟨vL0, vC0, vL1, vC1, vL2, vC2, v7, v8, v9, b7, b8, b9, x7, y7, x8, y8, x9, y9, rfl, HW, F0, F1, F2, F3, F4, F5, A7, A8, A9, D0, D1, D2, R0, R1, R2⟩ := hI
    have e0 := F0.out (hall 0 (by decide))
    subst e0
    have e1 := F1.out (hall 1 (by decide))
    subst e1
    have e2 := F2.out (hall 2 (by decide))
    subst e2
    have e3 := F3.out (hall 3 (by decide))
    subst e3
    have e4 := F4.out (hall 4 (by decide))
    subst e4
    have e5 := F5.out (hall 5 (by decide))
    subst e5
    obtain ⟨rfl, fb0, g⟩ := A7.out (hall 6 (by decide))
    obtain ⟨g1, g2⟩ := g (hall 9 (by decide))
    have g1 := g1.symm
    have g2 := g2.symm
    subst g1
    subst g2
    obtain ⟨rfl, fb1, g⟩ := A8.out (hall 7 (by decide))
    obtain ⟨g1, g2⟩ := g (hall 10 (by decide))
    have g1 := g1.symm
    have g2 := g2.symm
    subst g1
    subst g2
    obtain ⟨rfl, fb2, g⟩ := A9.out (hall 8 (by decide))
    obtain ⟨g1, g2⟩ := g (hall 11 (by decide))
    have g1 := g1.symm
    have g2 := g2.symm
    subst g1
    subst g2
    have HB1 := hide HW.out.below
    have HC := hide (((HW.out.cl.cons fb2.hi fb2.c0 fb2.c1).cons fb1.hi fb1.c0 fb1.c1).cons fb0.hi fb0.c0 fb0.c1)
    have HS := hide HW.out.size
    clear F0 F1 F2 F3 F4 F5 A7 A8 A9 D0 D1 D2 R0 R1 R2 hall HRC fb0 fb1 fb2 HW
    have HR := hide (RC.mk HB1.out (Nat.le_refl wx.heap.size) HB1.out.size HC.out (fun c x y hm => (HC.out c x y hm).1))
    clear HC HS HB1
    obtain ⟨_, c0, c1⟩ := HR.out.cl (b7) a0_0 a0_1 (by simp)
    obtain ⟨_, c2, c3⟩ := HR.out.cl (b8) a1_0 a1_1 (by simp)
    obtain ⟨_, c4, c5⟩ := HR.out.cl (b9) a2_0 a2_1 (by simp)
    by_cases h0 : E0 = 0
    · rw [h0] at K0
      go_wp2_with fail
      refine ((K0 _).out).mono ?_
      rintro e wq1 ⟨rfl, hb⟩
      have HR := hide (HR.out.keep hb)
      clear hb c0 c1 c2 c3 c4 c5
      obtain ⟨_, c0, c1⟩ := HR.out.cl (b7) a0_0 a0_1 (by simp)
      obtain ⟨_, c2, c3⟩ := HR.out.cl (b8) a1_0 a1_1 (by simp)
      obtain ⟨_, c4, c5⟩ := HR.out.cl (b9) a2_0 a2_1 (by simp)
      by_cases h1 : E1 = 0
      · rw [h1] at K1
        go_wp2_with fail
        refine ((K1 _).out).mono ?_
        rintro e wq2 ⟨rfl, hb⟩
        have HR := hide (HR.out.keep hb)
        clear hb c0 c1 c2 c3 c4 c5
        obtain ⟨_, c0, c1⟩ := HR.out.cl (b7) a0_0 a0_1 (by simp)
        obtain ⟨_, c2, c3⟩ := HR.out.cl (b8) a1_0 a1_1 (by simp)
        obtain ⟨_, c4, c5⟩ := HR.out.cl (b9) a2_0 a2_1 (by simp)
        by_cases h2 : E2 = 0
        · rw [h2] at K2
          go_wp2_with fail
          refine ((K2 _).out).mono ?_
          rintro e wq3 ⟨rfl, hb⟩
          have HR := hide (HR.out.keep hb)
          clear hb c0 c1 c2 c3 c4 c5
          obtain ⟨_, c0, c1⟩ := HR.out.cl (b7) a0_0 a0_1 (by simp)
          obtain ⟨_, c2, c3⟩ := HR.out.cl (b8) a1_0 a1_1 (by simp)
          obtain ⟨_, c4, c5⟩ := HR.out.cl (b9) a2_0 a2_1 (by simp)
          have LW := fun k ho => hide ((LW k ho h0 h1 h2).out)
          clear h0 h1 h2 K0 K1 K2
          have HR := hide (RK.sub (L1 := [(b7, a0_0, a0_1), (b8, a1_0, a1_1), (b9, a2_0, a2_1)]) ⟨HR.out.below, HR.out.size, HR.out.cl⟩ (by intro x hx; simp at hx ⊢; rcases hx with h | h | h <;> simp [h]))
          go_wp2_with fail
          go_loopw [10] (fun s10 wr => ∃ k : Int, s10 = .int .i64 k ∧ (k = 0 ∨ k = 2 ∨ k = 4) ∧ Hid (RK w [(b7, a0_0, a0_1), (b8, a1_0, a1_1), (b9, a2_0, a2_1)] wx.heap.size wr)) (fun s10 _ => (4 - intOf s10).toNat)
          case atStart => exact ⟨0, rfl, .inl rfl, HR⟩
          case round =>
            clear HR c0 c1 c2 c3 c4 c5
            obtain ⟨k, rfl, hk, HR⟩ := hrel
            by_cases hk4 : k = 4
            · subst hk4
              clear hk
              obtain ⟨_, c0, c1⟩ := HR.out.cl (b7) a0_0 a0_1 (by simp)
              obtain ⟨_, c2, c3⟩ := HR.out.cl (b8) a1_0 a1_1 (by simp)
              obtain ⟨_, c4, c5⟩ := HR.out.cl (b9) a2_0 a2_1 (by simp)
              go_wp2_with fail
              refine (K _ (HT.out.keep HR.out.below) |>.out).mono ?_
              rintro e wq4 ⟨rfl, hb⟩
              have HR := hide (HR.out.keep hb)
              clear hb c0 c1 c2 c3 c4 c5
              go_wp2_with fail
              go_ret
              exact ⟨rfl, HR.out.below⟩
            · have ho : k = 0 ∨ k = 2 := by omega
              have kl : k < 4 := by omega
              have kg : 0 ≤ k := by omega
              have km : k ≤ 2 := by omega
              obtain ⟨ce, cn, cd, i1, i2, asc, bk⟩ := (LW k ho).out
              have P1 := fun w => (CM k a0_0 a0_1 a1_0 a1_1 kg (by omega) J0.out J1.out J2.out J3.out w)
              have P2 := fun w => (CM k a1_0 a1_1 a0_0 a0_1 kg (by omega) J2.out J3.out J0.out J1.out w)
              have P3 := fun w => (CM k a1_0 a1_1 a2_0 a2_1 kg (by omega) J2.out J3.out J4.out J5.out w)
              rw [ce, cn, cd] at P2
              clear ce cn cd hk hk4 LW
              generalize cbN k a0_0 a0_1 a1_0 a1_1 = N1 at *
              generalize cbD k a0_0 a0_1 a1_0 a1_1 = D1 at *
              generalize cbE k a0_0 a0_1 a1_0 a1_1 = E1 at *
              generalize cbN k a1_0 a1_1 a2_0 a2_1 = N2 at *
              generalize cbD k a1_0 a1_1 a2_0 a2_1 = D2 at *
              generalize cbE k a1_0 a1_1 a2_0 a2_1 = E2 at *
              have I1 := hide i1
              have I2 := hide i2
              have AS := hide asc
              have BK := hide bk
              have HO := hide ho
              clear i1 i2 asc bk ho
              obtain ⟨_, c0, c1⟩ := HR.out.cl (b7) a0_0 a0_1 (by simp)
              obtain ⟨_, c2, c3⟩ := HR.out.cl (b8) a1_0 a1_1 (by simp)
              obtain ⟨_, c4, c5⟩ := HR.out.cl (b9) a2_0 a2_1 (by simp)
              go_wp2_with fail
              clear c0 c1 c2 c3 c4 c5
              refine ((P1 _).out).mono ?_
              rintro e wq5 ⟨rfl, hb⟩
              have HR := hide (HR.out.keep hb)
              clear hb
              have c0 := fun o => ((HR.out.keep (alloc1 wq5 o)).cl b7 a0_0 a0_1 (by simp)).2.1
              have c1 := fun o => ((HR.out.keep (alloc1 wq5 o)).cl b7 a0_0 a0_1 (by simp)).2.2
              have c2 := fun o => ((HR.out.keep (alloc1 wq5 o)).cl b8 a1_0 a1_1 (by simp)).2.1
              have c3 := fun o => ((HR.out.keep (alloc1 wq5 o)).cl b8 a1_0 a1_1 (by simp)).2.2
              have c4 := fun o => ((HR.out.keep (alloc1 wq5 o)).cl b9 a2_0 a2_1 (by simp)).2.1
              have c5 := fun o => ((HR.out.keep (alloc1 wq5 o)).cl b9 a2_0 a2_1 (by simp)).2.2
              go_wp2_with fail
              clear c0 c1 c2 c3 c4 c5
              have HR := hide (RK.push (N := N1) (D := D1) HR.out)
              generalize wq5.alloc (Obj.cells #[Value.int IntKind.i64 N1, Value.int IntKind.i64 D1] 23) = V6 at *
              generalize wq5.heap.size = b10 at *
              refine ((P2 _).out).mono ?_
              rintro e wq7 ⟨rfl, hb⟩
              have HR := hide (HR.out.keep hb)
              clear hb
              have c0 := fun o => ((HR.out.keep (alloc1 wq7 o)).cl b7 a0_0 a0_1 (by simp)).2.1
              have c1 := fun o => ((HR.out.keep (alloc1 wq7 o)).cl b7 a0_0 a0_1 (by simp)).2.2
              have c2 := fun o => ((HR.out.keep (alloc1 wq7 o)).cl b8 a1_0 a1_1 (by simp)).2.1
              have c3 := fun o => ((HR.out.keep (alloc1 wq7 o)).cl b8 a1_0 a1_1 (by simp)).2.2
              have c4 := fun o => ((HR.out.keep (alloc1 wq7 o)).cl b9 a2_0 a2_1 (by simp)).2.1
              have c5 := fun o => ((HR.out.keep (alloc1 wq7 o)).cl b9 a2_0 a2_1 (by simp)).2.2
              have c6 := fun o => ((HR.out.keep (alloc1 wq7 o)).cl b10 N1 D1 (by simp)).2.1
              have c7 := fun o => ((HR.out.keep (alloc1 wq7 o)).cl b10 N1 D1 (by simp)).2.2
              go_wp2_with fail
              clear c0 c1 c2 c3 c4 c5 c6 c7
              have HR := hide (RK.push (N := N1) (D := D1) HR.out)
              generalize wq7.alloc (Obj.cells #[Value.int IntKind.i64 N1, Value.int IntKind.i64 D1] 23) = V8 at *
              generalize wq7.heap.size = b11 at *
              refine ((P3 _).out).mono ?_
              rintro e wq9 ⟨rfl, hb⟩
              have HR := hide (HR.out.keep hb)
              clear hb
              by_cases e1 : E1 = 0
              · have Z1 := hide e1
                have q1 : (E1 == 0) = true := by simpa using e1
                clear e1
                by_cases e2 : E2 = 0
                · have Z2 := hide e2
                  have q2 : (E2 == 0) = true := by simpa using e2
                  clear e2
                  obtain ⟨x1, x2, x3⟩ := AS.out Z1.out Z2.out
                  have P4 := fun w => (CM k N1 D1 a2_0 a2_1 kg (by omega) (I1.out Z1.out).1 (I1.out Z1.out).2 J4.out J5.out w)
                  have P5 := fun w => (CM k a0_0 a0_1 N2 D2 kg (by omega) J0.out J1.out (I2.out Z2.out).1 (I2.out Z2.out).2 w)
                  rw [x1, x2, x3] at P5
                  clear x1 x2 x3
                  generalize cbN k N1 D1 a2_0 a2_1 = N3 at *
                  generalize cbD k N1 D1 a2_0 a2_1 = D3 at *
                  generalize cbE k N1 D1 a2_0 a2_1 = E3 at *
                  have c0 := fun o => ((HR.out.keep (alloc1 wq9 o)).cl b7 a0_0 a0_1 (by simp)).2.1
                  have c1 := fun o => ((HR.out.keep (alloc1 wq9 o)).cl b7 a0_0 a0_1 (by simp)).2.2
                  have c2 := fun o => ((HR.out.keep (alloc1 wq9 o)).cl b8 a1_0 a1_1 (by simp)).2.1
                  have c3 := fun o => ((HR.out.keep (alloc1 wq9 o)).cl b8 a1_0 a1_1 (by simp)).2.2
                  have c4 := fun o => ((HR.out.keep (alloc1 wq9 o)).cl b9 a2_0 a2_1 (by simp)).2.1
                  have c5 := fun o => ((HR.out.keep (alloc1 wq9 o)).cl b9 a2_0 a2_1 (by simp)).2.2
                  have c6 := fun o => ((HR.out.keep (alloc1 wq9 o)).cl b10 N1 D1 (by simp)).2.1
                  have c7 := fun o => ((HR.out.keep (alloc1 wq9 o)).cl b10 N1 D1 (by simp)).2.2
                  have c8 := fun o => ((HR.out.keep (alloc1 wq9 o)).cl b11 N1 D1 (by simp)).2.1
                  have c9 := fun o => ((HR.out.keep (alloc1 wq9 o)).cl b11 N1 D1 (by simp)).2.2
                  go_wp2_with fail
                  clear c0 c1 c2 c3 c4 c5 c6 c7 c8 c9
                  have HR := hide (RK.push (N := N2) (D := D2) HR.out)
                  generalize wq9.alloc (Obj.cells #[Value.int IntKind.i64 N2, Value.int IntKind.i64 D2] 23) = V10 at *
                  generalize wq9.heap.size = b12 at *
                  refine ((P4 _).out).mono ?_
                  rintro e wq11 ⟨rfl, hb⟩
                  have HR := hide (HR.out.keep hb)
                  clear hb
                  have c0 := fun o => ((HR.out.keep (alloc1 wq11 o)).cl b7 a0_0 a0_1 (by simp)).2.1
                  have c1 := fun o => ((HR.out.keep (alloc1 wq11 o)).cl b7 a0_0 a0_1 (by simp)).2.2
                  have c2 := fun o => ((HR.out.keep (alloc1 wq11 o)).cl b8 a1_0 a1_1 (by simp)).2.1
                  have c3 := fun o => ((HR.out.keep (alloc1 wq11 o)).cl b8 a1_0 a1_1 (by simp)).2.2
                  have c4 := fun o => ((HR.out.keep (alloc1 wq11 o)).cl b9 a2_0 a2_1 (by simp)).2.1
                  have c5 := fun o => ((HR.out.keep (alloc1 wq11 o)).cl b9 a2_0 a2_1 (by simp)).2.2
                  have c6 := fun o => ((HR.out.keep (alloc1 wq11 o)).cl b10 N1 D1 (by simp)).2.1
                  have c7 := fun o => ((HR.out.keep (alloc1 wq11 o)).cl b10 N1 D1 (by simp)).2.2
                  have c8 := fun o => ((HR.out.keep (alloc1 wq11 o)).cl b11 N1 D1 (by simp)).2.1
                  have c9 := fun o => ((HR.out.keep (alloc1 wq11 o)).cl b11 N1 D1 (by simp)).2.2
                  have c10 := fun o => ((HR.out.keep (alloc1 wq11 o)).cl b12 N2 D2 (by simp)).2.1
                  have c11 := fun o => ((HR.out.keep (alloc1 wq11 o)).cl b12 N2 D2 (by simp)).2.2
                  go_wp2_with fail
                  clear c0 c1 c2 c3 c4 c5 c6 c7 c8 c9 c10 c11
                  have HR := hide (RK.push (N := N3) (D := D3) HR.out)
                  generalize wq11.alloc (Obj.cells #[Value.int IntKind.i64 N3, Value.int IntKind.i64 D3] 23) = V12 at *
                  generalize wq11.heap.size = b13 at *
                  refine ((P5 _).out).mono ?_
                  rintro e wq13 ⟨rfl, hb⟩
                  have HR := hide (HR.out.keep hb)
                  clear hb
                  by_cases hz : k = 0 ∨ a1_0 ≠ 0
                  · obtain ⟨y1, y2, y3⟩ := BK.out Z1.out hz
                    have Q := fun w => (CM (k + 1) N1 D1 a1_0 a1_1 (by omega) (by omega) (I1.out Z1.out).1 (I1.out Z1.out).2 J2.out J3.out w)
                    rw [y1, y2, y3] at Q
                    clear y1 y2 y3
                    by_cases hk0 : k = 0
                    · have ks : (k == 0) = true := by simpa using hk0
                      clear hk0 hz
                      have c0 := fun o => ((HR.out.keep (alloc1 wq13 o)).cl b7 a0_0 a0_1 (by simp)).2.1
                      have c1 := fun o => ((HR.out.keep (alloc1 wq13 o)).cl b7 a0_0 a0_1 (by simp)).2.2
                      have c2 := fun o => ((HR.out.keep (alloc1 wq13 o)).cl b8 a1_0 a1_1 (by simp)).2.1
                      have c3 := fun o => ((HR.out.keep (alloc1 wq13 o)).cl b8 a1_0 a1_1 (by simp)).2.2
                      have c4 := fun o => ((HR.out.keep (alloc1 wq13 o)).cl b9 a2_0 a2_1 (by simp)).2.1
                      have c5 := fun o => ((HR.out.keep (alloc1 wq13 o)).cl b9 a2_0 a2_1 (by simp)).2.2
                      have c6 := fun o => ((HR.out.keep (alloc1 wq13 o)).cl b10 N1 D1 (by simp)).2.1
                      have c7 := fun o => ((HR.out.keep (alloc1 wq13 o)).cl b10 N1 D1 (by simp)).2.2
                      have c8 := fun o => ((HR.out.keep (alloc1 wq13 o)).cl b11 N1 D1 (by simp)).2.1
                      have c9 := fun o => ((HR.out.keep (alloc1 wq13 o)).cl b11 N1 D1 (by simp)).2.2
                      have c10 := fun o => ((HR.out.keep (alloc1 wq13 o)).cl b12 N2 D2 (by simp)).2.1
                      have c11 := fun o => ((HR.out.keep (alloc1 wq13 o)).cl b12 N2 D2 (by simp)).2.2
                      have c12 := fun o => ((HR.out.keep (alloc1 wq13 o)).cl b13 N3 D3 (by simp)).2.1
                      have c13 := fun o => ((HR.out.keep (alloc1 wq13 o)).cl b13 N3 D3 (by simp)).2.2
                      go_wp2_with fail
                      clear c0 c1 c2 c3 c4 c5 c6 c7 c8 c9 c10 c11 c12 c13
                      have HR := hide (RK.push (N := N3) (D := D3) HR.out)
                      generalize wq13.alloc (Obj.cells #[Value.int IntKind.i64 N3, Value.int IntKind.i64 D3] 23) = V14 at *
                      generalize wq13.heap.size = b14 at *
                      refine ((Q _).out).mono ?_
                      rintro e wq15 ⟨rfl, hb⟩
                      have HR := hide (HR.out.keep hb)
                      clear hb
                      have c0 := fun o => ((HR.out.keep (alloc1 wq15 o)).cl b7 a0_0 a0_1 (by simp)).2.1
                      have c1 := fun o => ((HR.out.keep (alloc1 wq15 o)).cl b7 a0_0 a0_1 (by simp)).2.2
                      have c2 := fun o => ((HR.out.keep (alloc1 wq15 o)).cl b8 a1_0 a1_1 (by simp)).2.1
                      have c3 := fun o => ((HR.out.keep (alloc1 wq15 o)).cl b8 a1_0 a1_1 (by simp)).2.2
                      have c4 := fun o => ((HR.out.keep (alloc1 wq15 o)).cl b9 a2_0 a2_1 (by simp)).2.1
                      have c5 := fun o => ((HR.out.keep (alloc1 wq15 o)).cl b9 a2_0 a2_1 (by simp)).2.2
                      have c6 := fun o => ((HR.out.keep (alloc1 wq15 o)).cl b10 N1 D1 (by simp)).2.1
                      have c7 := fun o => ((HR.out.keep (alloc1 wq15 o)).cl b10 N1 D1 (by simp)).2.2
                      have c8 := fun o => ((HR.out.keep (alloc1 wq15 o)).cl b11 N1 D1 (by simp)).2.1
                      have c9 := fun o => ((HR.out.keep (alloc1 wq15 o)).cl b11 N1 D1 (by simp)).2.2
                      have c10 := fun o => ((HR.out.keep (alloc1 wq15 o)).cl b12 N2 D2 (by simp)).2.1
                      have c11 := fun o => ((HR.out.keep (alloc1 wq15 o)).cl b12 N2 D2 (by simp)).2.2
                      have c12 := fun o => ((HR.out.keep (alloc1 wq15 o)).cl b13 N3 D3 (by simp)).2.1
                      have c13 := fun o => ((HR.out.keep (alloc1 wq15 o)).cl b13 N3 D3 (by simp)).2.2
                      have c14 := fun o => ((HR.out.keep (alloc1 wq15 o)).cl b14 N3 D3 (by simp)).2.1
                      have c15 := fun o => ((HR.out.keep (alloc1 wq15 o)).cl b14 N3 D3 (by simp)).2.2
                      go_wp2_with fail
                      clear c0 c1 c2 c3 c4 c5 c6 c7 c8 c9 c10 c11 c12 c13 c14 c15
                      have HR := hide (RK.push (N := a0_0) (D := a0_1) HR.out)
                      generalize wq15.alloc (Obj.cells #[Value.int IntKind.i64 a0_0, Value.int IntKind.i64 a0_1] 23) = V16 at *
                      generalize wq15.heap.size = b15 at *
                      go_roundw
                      case rel => exact ⟨k + 2, by go_simp, by have := HO.out; omega, hide (RK.sub (L1 := [(b7, a0_0, a0_1), (b8, a1_0, a1_1), (b9, a2_0, a2_1)]) HR.out (by intro x hx; simp at hx ⊢; rcases hx with h | h | h <;> simp [h]))⟩
                      case measure => simp [intOf]; omega
                    · have ks : (k == 0) = false := by simpa using hk0
                      have ns : (a1_0 != 0) = true := by simpa using (hz.resolve_left hk0)
                      clear hk0 hz
                      have c0 := fun o => ((HR.out.keep (alloc1 wq13 o)).cl b7 a0_0 a0_1 (by simp)).2.1
                      have c1 := fun o => ((HR.out.keep (alloc1 wq13 o)).cl b7 a0_0 a0_1 (by simp)).2.2
                      have c2 := fun o => ((HR.out.keep (alloc1 wq13 o)).cl b8 a1_0 a1_1 (by simp)).2.1
                      have c3 := fun o => ((HR.out.keep (alloc1 wq13 o)).cl b8 a1_0 a1_1 (by simp)).2.2
                      have c4 := fun o => ((HR.out.keep (alloc1 wq13 o)).cl b9 a2_0 a2_1 (by simp)).2.1
                      have c5 := fun o => ((HR.out.keep (alloc1 wq13 o)).cl b9 a2_0 a2_1 (by simp)).2.2
                      have c6 := fun o => ((HR.out.keep (alloc1 wq13 o)).cl b10 N1 D1 (by simp)).2.1
                      have c7 := fun o => ((HR.out.keep (alloc1 wq13 o)).cl b10 N1 D1 (by simp)).2.2
                      have c8 := fun o => ((HR.out.keep (alloc1 wq13 o)).cl b11 N1 D1 (by simp)).2.1
                      have c9 := fun o => ((HR.out.keep (alloc1 wq13 o)).cl b11 N1 D1 (by simp)).2.2
                      have c10 := fun o => ((HR.out.keep (alloc1 wq13 o)).cl b12 N2 D2 (by simp)).2.1
                      have c11 := fun o => ((HR.out.keep (alloc1 wq13 o)).cl b12 N2 D2 (by simp)).2.2
                      have c12 := fun o => ((HR.out.keep (alloc1 wq13 o)).cl b13 N3 D3 (by simp)).2.1
                      have c13 := fun o => ((HR.out.keep (alloc1 wq13 o)).cl b13 N3 D3 (by simp)).2.2
                      go_wp2_with fail
                      clear c0 c1 c2 c3 c4 c5 c6 c7 c8 c9 c10 c11 c12 c13
                      have HR := hide (RK.push (N := N3) (D := D3) HR.out)
                      generalize wq13.alloc (Obj.cells #[Value.int IntKind.i64 N3, Value.int IntKind.i64 D3] 23) = V17 at *
                      generalize wq13.heap.size = b14 at *
                      refine ((Q _).out).mono ?_
                      rintro e wq18 ⟨rfl, hb⟩
                      have HR := hide (HR.out.keep hb)
                      clear hb
                      have c0 := fun o => ((HR.out.keep (alloc1 wq18 o)).cl b7 a0_0 a0_1 (by simp)).2.1
                      have c1 := fun o => ((HR.out.keep (alloc1 wq18 o)).cl b7 a0_0 a0_1 (by simp)).2.2
                      have c2 := fun o => ((HR.out.keep (alloc1 wq18 o)).cl b8 a1_0 a1_1 (by simp)).2.1
                      have c3 := fun o => ((HR.out.keep (alloc1 wq18 o)).cl b8 a1_0 a1_1 (by simp)).2.2
                      have c4 := fun o => ((HR.out.keep (alloc1 wq18 o)).cl b9 a2_0 a2_1 (by simp)).2.1
                      have c5 := fun o => ((HR.out.keep (alloc1 wq18 o)).cl b9 a2_0 a2_1 (by simp)).2.2
                      have c6 := fun o => ((HR.out.keep (alloc1 wq18 o)).cl b10 N1 D1 (by simp)).2.1
                      have c7 := fun o => ((HR.out.keep (alloc1 wq18 o)).cl b10 N1 D1 (by simp)).2.2
                      have c8 := fun o => ((HR.out.keep (alloc1 wq18 o)).cl b11 N1 D1 (by simp)).2.1
                      have c9 := fun o => ((HR.out.keep (alloc1 wq18 o)).cl b11 N1 D1 (by simp)).2.2
                      have c10 := fun o => ((HR.out.keep (alloc1 wq18 o)).cl b12 N2 D2 (by simp)).2.1
                      have c11 := fun o => ((HR.out.keep (alloc1 wq18 o)).cl b12 N2 D2 (by simp)).2.2
                      have c12 := fun o => ((HR.out.keep (alloc1 wq18 o)).cl b13 N3 D3 (by simp)).2.1
                      have c13 := fun o => ((HR.out.keep (alloc1 wq18 o)).cl b13 N3 D3 (by simp)).2.2
                      have c14 := fun o => ((HR.out.keep (alloc1 wq18 o)).cl b14 N3 D3 (by simp)).2.1
                      have c15 := fun o => ((HR.out.keep (alloc1 wq18 o)).cl b14 N3 D3 (by simp)).2.2
                      go_wp2_with fail
                      clear c0 c1 c2 c3 c4 c5 c6 c7 c8 c9 c10 c11 c12 c13 c14 c15
                      have HR := hide (RK.push (N := a0_0) (D := a0_1) HR.out)
                      generalize wq18.alloc (Obj.cells #[Value.int IntKind.i64 a0_0, Value.int IntKind.i64 a0_1] 23) = V19 at *
                      generalize wq18.heap.size = b15 at *
                      go_roundw
                      case rel => exact ⟨k + 2, by go_simp, by have := HO.out; omega, hide (RK.sub (L1 := [(b7, a0_0, a0_1), (b8, a1_0, a1_1), (b9, a2_0, a2_1)]) HR.out (by intro x hx; simp at hx ⊢; rcases hx with h | h | h <;> simp [h]))⟩
                      case measure => simp [intOf]; omega
                  · have ks : (k == 0) = false := by simpa using (fun h => hz (Or.inl h))
                    have ns : (a1_0 != 0) = false := by simpa using (Classical.byContradiction fun h => hz (Or.inr h))
                    clear hz
                    have c0 := fun o => ((HR.out.keep (alloc1 wq13 o)).cl b7 a0_0 a0_1 (by simp)).2.1
                    have c1 := fun o => ((HR.out.keep (alloc1 wq13 o)).cl b7 a0_0 a0_1 (by simp)).2.2
                    have c2 := fun o => ((HR.out.keep (alloc1 wq13 o)).cl b8 a1_0 a1_1 (by simp)).2.1
                    have c3 := fun o => ((HR.out.keep (alloc1 wq13 o)).cl b8 a1_0 a1_1 (by simp)).2.2
                    have c4 := fun o => ((HR.out.keep (alloc1 wq13 o)).cl b9 a2_0 a2_1 (by simp)).2.1
                    have c5 := fun o => ((HR.out.keep (alloc1 wq13 o)).cl b9 a2_0 a2_1 (by simp)).2.2
                    have c6 := fun o => ((HR.out.keep (alloc1 wq13 o)).cl b10 N1 D1 (by simp)).2.1
                    have c7 := fun o => ((HR.out.keep (alloc1 wq13 o)).cl b10 N1 D1 (by simp)).2.2
                    have c8 := fun o => ((HR.out.keep (alloc1 wq13 o)).cl b11 N1 D1 (by simp)).2.1
                    have c9 := fun o => ((HR.out.keep (alloc1 wq13 o)).cl b11 N1 D1 (by simp)).2.2
                    have c10 := fun o => ((HR.out.keep (alloc1 wq13 o)).cl b12 N2 D2 (by simp)).2.1
                    have c11 := fun o => ((HR.out.keep (alloc1 wq13 o)).cl b12 N2 D2 (by simp)).2.2
                    have c12 := fun o => ((HR.out.keep (alloc1 wq13 o)).cl b13 N3 D3 (by simp)).2.1
                    have c13 := fun o => ((HR.out.keep (alloc1 wq13 o)).cl b13 N3 D3 (by simp)).2.2
                    go_wp2_with fail
                    clear c0 c1 c2 c3 c4 c5 c6 c7 c8 c9 c10 c11 c12 c13
                    have HR := hide (RK.push (N := N3) (D := D3) HR.out)
                    generalize wq13.alloc (Obj.cells #[Value.int IntKind.i64 N3, Value.int IntKind.i64 D3] 23) = V20 at *
                    generalize wq13.heap.size = b14 at *
                    go_roundw
                    case rel => exact ⟨k + 2, by go_simp, by have := HO.out; omega, hide (RK.sub (L1 := [(b7, a0_0, a0_1), (b8, a1_0, a1_1), (b9, a2_0, a2_1)]) HR.out (by intro x hx; simp at hx ⊢; rcases hx with h | h | h <;> simp [h]))⟩
                    case measure => simp [intOf]; omega
                · have q2 : (E2 == 0) = false := by simpa using e2
                  clear e2
                  by_cases hz : k = 0 ∨ a1_0 ≠ 0
                  · obtain ⟨y1, y2, y3⟩ := BK.out Z1.out hz
                    have Q := fun w => (CM (k + 1) N1 D1 a1_0 a1_1 (by omega) (by omega) (I1.out Z1.out).1 (I1.out Z1.out).2 J2.out J3.out w)
                    rw [y1, y2, y3] at Q
                    clear y1 y2 y3
                    by_cases hk0 : k = 0
                    · have ks : (k == 0) = true := by simpa using hk0
                      clear hk0 hz
                      have c0 := fun o => ((HR.out.keep (alloc1 wq9 o)).cl b7 a0_0 a0_1 (by simp)).2.1
                      have c1 := fun o => ((HR.out.keep (alloc1 wq9 o)).cl b7 a0_0 a0_1 (by simp)).2.2
                      have c2 := fun o => ((HR.out.keep (alloc1 wq9 o)).cl b8 a1_0 a1_1 (by simp)).2.1
                      have c3 := fun o => ((HR.out.keep (alloc1 wq9 o)).cl b8 a1_0 a1_1 (by simp)).2.2
                      have c4 := fun o => ((HR.out.keep (alloc1 wq9 o)).cl b9 a2_0 a2_1 (by simp)).2.1
                      have c5 := fun o => ((HR.out.keep (alloc1 wq9 o)).cl b9 a2_0 a2_1 (by simp)).2.2
                      have c6 := fun o => ((HR.out.keep (alloc1 wq9 o)).cl b10 N1 D1 (by simp)).2.1
                      have c7 := fun o => ((HR.out.keep (alloc1 wq9 o)).cl b10 N1 D1 (by simp)).2.2
                      have c8 := fun o => ((HR.out.keep (alloc1 wq9 o)).cl b11 N1 D1 (by simp)).2.1
                      have c9 := fun o => ((HR.out.keep (alloc1 wq9 o)).cl b11 N1 D1 (by simp)).2.2
                      go_wp2_with fail
                      clear c0 c1 c2 c3 c4 c5 c6 c7 c8 c9
                      have HR := hide (RK.push (N := N2) (D := D2) HR.out)
                      generalize wq9.alloc (Obj.cells #[Value.int IntKind.i64 N2, Value.int IntKind.i64 D2] 23) = V21 at *
                      generalize wq9.heap.size = b12 at *
                      refine ((Q _).out).mono ?_
                      rintro e wq22 ⟨rfl, hb⟩
                      have HR := hide (HR.out.keep hb)
                      clear hb
                      have c0 := fun o => ((HR.out.keep (alloc1 wq22 o)).cl b7 a0_0 a0_1 (by simp)).2.1
                      have c1 := fun o => ((HR.out.keep (alloc1 wq22 o)).cl b7 a0_0 a0_1 (by simp)).2.2
                      have c2 := fun o => ((HR.out.keep (alloc1 wq22 o)).cl b8 a1_0 a1_1 (by simp)).2.1
                      have c3 := fun o => ((HR.out.keep (alloc1 wq22 o)).cl b8 a1_0 a1_1 (by simp)).2.2
                      have c4 := fun o => ((HR.out.keep (alloc1 wq22 o)).cl b9 a2_0 a2_1 (by simp)).2.1
                      have c5 := fun o => ((HR.out.keep (alloc1 wq22 o)).cl b9 a2_0 a2_1 (by simp)).2.2
                      have c6 := fun o => ((HR.out.keep (alloc1 wq22 o)).cl b10 N1 D1 (by simp)).2.1
                      have c7 := fun o => ((HR.out.keep (alloc1 wq22 o)).cl b10 N1 D1 (by simp)).2.2
                      have c8 := fun o => ((HR.out.keep (alloc1 wq22 o)).cl b11 N1 D1 (by simp)).2.1
                      have c9 := fun o => ((HR.out.keep (alloc1 wq22 o)).cl b11 N1 D1 (by simp)).2.2
                      have c10 := fun o => ((HR.out.keep (alloc1 wq22 o)).cl b12 N2 D2 (by simp)).2.1
                      have c11 := fun o => ((HR.out.keep (alloc1 wq22 o)).cl b12 N2 D2 (by simp)).2.2
                      go_wp2_with fail
                      clear c0 c1 c2 c3 c4 c5 c6 c7 c8 c9 c10 c11
                      have HR := hide (RK.push (N := a0_0) (D := a0_1) HR.out)
                      generalize wq22.alloc (Obj.cells #[Value.int IntKind.i64 a0_0, Value.int IntKind.i64 a0_1] 23) = V23 at *
                      generalize wq22.heap.size = b15 at *
                      go_roundw
                      case rel => exact ⟨k + 2, by go_simp, by have := HO.out; omega, hide (RK.sub (L1 := [(b7, a0_0, a0_1), (b8, a1_0, a1_1), (b9, a2_0, a2_1)]) HR.out (by intro x hx; simp at hx ⊢; rcases hx with h | h | h <;> simp [h]))⟩
                      case measure => simp [intOf]; omega
                    · have ks : (k == 0) = false := by simpa using hk0
                      have ns : (a1_0 != 0) = true := by simpa using (hz.resolve_left hk0)
                      clear hk0 hz
                      have c0 := fun o => ((HR.out.keep (alloc1 wq9 o)).cl b7 a0_0 a0_1 (by simp)).2.1
                      have c1 := fun o => ((HR.out.keep (alloc1 wq9 o)).cl b7 a0_0 a0_1 (by simp)).2.2
                      have c2 := fun o => ((HR.out.keep (alloc1 wq9 o)).cl b8 a1_0 a1_1 (by simp)).2.1
                      have c3 := fun o => ((HR.out.keep (alloc1 wq9 o)).cl b8 a1_0 a1_1 (by simp)).2.2
                      have c4 := fun o => ((HR.out.keep (alloc1 wq9 o)).cl b9 a2_0 a2_1 (by simp)).2.1
                      have c5 := fun o => ((HR.out.keep (alloc1 wq9 o)).cl b9 a2_0 a2_1 (by simp)).2.2
                      have c6 := fun o => ((HR.out.keep (alloc1 wq9 o)).cl b10 N1 D1 (by simp)).2.1
                      have c7 := fun o => ((HR.out.keep (alloc1 wq9 o)).cl b10 N1 D1 (by simp)).2.2
                      have c8 := fun o => ((HR.out.keep (alloc1 wq9 o)).cl b11 N1 D1 (by simp)).2.1
                      have c9 := fun o => ((HR.out.keep (alloc1 wq9 o)).cl b11 N1 D1 (by simp)).2.2
                      go_wp2_with fail
                      clear c0 c1 c2 c3 c4 c5 c6 c7 c8 c9
                      have HR := hide (RK.push (N := N2) (D := D2) HR.out)
                      generalize wq9.alloc (Obj.cells #[Value.int IntKind.i64 N2, Value.int IntKind.i64 D2] 23) = V24 at *
                      generalize wq9.heap.size = b12 at *
                      refine ((Q _).out).mono ?_
                      rintro e wq25 ⟨rfl, hb⟩
                      have HR := hide (HR.out.keep hb)
                      clear hb
                      have c0 := fun o => ((HR.out.keep (alloc1 wq25 o)).cl b7 a0_0 a0_1 (by simp)).2.1
                      have c1 := fun o => ((HR.out.keep (alloc1 wq25 o)).cl b7 a0_0 a0_1 (by simp)).2.2
                      have c2 := fun o => ((HR.out.keep (alloc1 wq25 o)).cl b8 a1_0 a1_1 (by simp)).2.1
                      have c3 := fun o => ((HR.out.keep (alloc1 wq25 o)).cl b8 a1_0 a1_1 (by simp)).2.2
                      have c4 := fun o => ((HR.out.keep (alloc1 wq25 o)).cl b9 a2_0 a2_1 (by simp)).2.1
                      have c5 := fun o => ((HR.out.keep (alloc1 wq25 o)).cl b9 a2_0 a2_1 (by simp)).2.2
                      have c6 := fun o => ((HR.out.keep (alloc1 wq25 o)).cl b10 N1 D1 (by simp)).2.1
                      have c7 := fun o => ((HR.out.keep (alloc1 wq25 o)).cl b10 N1 D1 (by simp)).2.2
                      have c8 := fun o => ((HR.out.keep (alloc1 wq25 o)).cl b11 N1 D1 (by simp)).2.1
                      have c9 := fun o => ((HR.out.keep (alloc1 wq25 o)).cl b11 N1 D1 (by simp)).2.2
                      have c10 := fun o => ((HR.out.keep (alloc1 wq25 o)).cl b12 N2 D2 (by simp)).2.1
                      have c11 := fun o => ((HR.out.keep (alloc1 wq25 o)).cl b12 N2 D2 (by simp)).2.2
                      go_wp2_with fail
                      clear c0 c1 c2 c3 c4 c5 c6 c7 c8 c9 c10 c11
                      have HR := hide (RK.push (N := a0_0) (D := a0_1) HR.out)
                      generalize wq25.alloc (Obj.cells #[Value.int IntKind.i64 a0_0, Value.int IntKind.i64 a0_1] 23) = V26 at *
                      generalize wq25.heap.size = b15 at *
                      go_roundw
                      case rel => exact ⟨k + 2, by go_simp, by have := HO.out; omega, hide (RK.sub (L1 := [(b7, a0_0, a0_1), (b8, a1_0, a1_1), (b9, a2_0, a2_1)]) HR.out (by intro x hx; simp at hx ⊢; rcases hx with h | h | h <;> simp [h]))⟩
                      case measure => simp [intOf]; omega
                  · have ks : (k == 0) = false := by simpa using (fun h => hz (Or.inl h))
                    have ns : (a1_0 != 0) = false := by simpa using (Classical.byContradiction fun h => hz (Or.inr h))
                    clear hz
                    have c0 := fun o => ((HR.out.keep (alloc1 wq9 o)).cl b7 a0_0 a0_1 (by simp)).2.1
                    have c1 := fun o => ((HR.out.keep (alloc1 wq9 o)).cl b7 a0_0 a0_1 (by simp)).2.2
                    have c2 := fun o => ((HR.out.keep (alloc1 wq9 o)).cl b8 a1_0 a1_1 (by simp)).2.1
                    have c3 := fun o => ((HR.out.keep (alloc1 wq9 o)).cl b8 a1_0 a1_1 (by simp)).2.2
                    have c4 := fun o => ((HR.out.keep (alloc1 wq9 o)).cl b9 a2_0 a2_1 (by simp)).2.1
                    have c5 := fun o => ((HR.out.keep (alloc1 wq9 o)).cl b9 a2_0 a2_1 (by simp)).2.2
                    have c6 := fun o => ((HR.out.keep (alloc1 wq9 o)).cl b10 N1 D1 (by simp)).2.1
                    have c7 := fun o => ((HR.out.keep (alloc1 wq9 o)).cl b10 N1 D1 (by simp)).2.2
                    have c8 := fun o => ((HR.out.keep (alloc1 wq9 o)).cl b11 N1 D1 (by simp)).2.1
                    have c9 := fun o => ((HR.out.keep (alloc1 wq9 o)).cl b11 N1 D1 (by simp)).2.2
                    go_wp2_with fail
                    clear c0 c1 c2 c3 c4 c5 c6 c7 c8 c9
                    have HR := hide (RK.push (N := N2) (D := D2) HR.out)
                    generalize wq9.alloc (Obj.cells #[Value.int IntKind.i64 N2, Value.int IntKind.i64 D2] 23) = V27 at *
                    generalize wq9.heap.size = b12 at *
                    go_roundw
                    case rel => exact ⟨k + 2, by go_simp, by have := HO.out; omega, hide (RK.sub (L1 := [(b7, a0_0, a0_1), (b8, a1_0, a1_1), (b9, a2_0, a2_1)]) HR.out (by intro x hx; simp at hx ⊢; rcases hx with h | h | h <;> simp [h]))⟩
                    case measure => simp [intOf]; omega
              · have q1 : (E1 == 0) = false := by simpa using e1
                clear e1
                have c0 := fun o => ((HR.out.keep (alloc1 wq9 o)).cl b7 a0_0 a0_1 (by simp)).2.1
                have c1 := fun o => ((HR.out.keep (alloc1 wq9 o)).cl b7 a0_0 a0_1 (by simp)).2.2
                have c2 := fun o => ((HR.out.keep (alloc1 wq9 o)).cl b8 a1_0 a1_1 (by simp)).2.1
                have c3 := fun o => ((HR.out.keep (alloc1 wq9 o)).cl b8 a1_0 a1_1 (by simp)).2.2
                have c4 := fun o => ((HR.out.keep (alloc1 wq9 o)).cl b9 a2_0 a2_1 (by simp)).2.1
                have c5 := fun o => ((HR.out.keep (alloc1 wq9 o)).cl b9 a2_0 a2_1 (by simp)).2.2
                have c6 := fun o => ((HR.out.keep (alloc1 wq9 o)).cl b10 N1 D1 (by simp)).2.1
                have c7 := fun o => ((HR.out.keep (alloc1 wq9 o)).cl b10 N1 D1 (by simp)).2.2
                have c8 := fun o => ((HR.out.keep (alloc1 wq9 o)).cl b11 N1 D1 (by simp)).2.1
                have c9 := fun o => ((HR.out.keep (alloc1 wq9 o)).cl b11 N1 D1 (by simp)).2.2
                go_wp2_with fail
                clear c0 c1 c2 c3 c4 c5 c6 c7 c8 c9
                have HR := hide (RK.push (N := N2) (D := D2) HR.out)
                generalize wq9.alloc (Obj.cells #[Value.int IntKind.i64 N2, Value.int IntKind.i64 D2] 23) = V28 at *
                generalize wq9.heap.size = b12 at *
                go_roundw
                case rel => exact ⟨k + 2, by go_simp, by have := HO.out; omega, hide (RK.sub (L1 := [(b7, a0_0, a0_1), (b8, a1_0, a1_1), (b9, a2_0, a2_1)]) HR.out (by intro x hx; simp at hx ⊢; rcases hx with h | h | h <;> simp [h]))⟩
                case measure => simp [intOf]; omega
        · have e1 : (E2 == 0) = false := by simpa using h2
          have e2 : (E2 != 0) = true := by simpa using h2
          go_wp2_with fail
          refine ((K2 _).out).mono ?_
          rintro e wq29 ⟨rfl, hb⟩
          have HR := hide (HR.out.keep hb)
          clear hb c0 c1 c2 c3 c4 c5
          obtain ⟨_, c0, c1⟩ := HR.out.cl (b7) a0_0 a0_1 (by simp)
          obtain ⟨_, c2, c3⟩ := HR.out.cl (b8) a1_0 a1_1 (by simp)
          obtain ⟨_, c4, c5⟩ := HR.out.cl (b9) a2_0 a2_1 (by simp)
          go_wp2_with fail
          refine (K _ (HT.out.keep HR.out.below) |>.out).mono ?_
          rintro e wq30 ⟨rfl, hb⟩
          have HR := hide (HR.out.keep hb)
          clear hb c0 c1 c2 c3 c4 c5
          go_wp2_with fail
          go_ret
          exact ⟨rfl, HR.out.below⟩
      · have e1 : (E1 == 0) = false := by simpa using h1
        have e2 : (E1 != 0) = true := by simpa using h1
        go_wp2_with fail
        refine ((K1 _).out).mono ?_
        rintro e wq31 ⟨rfl, hb⟩
        have HR := hide (HR.out.keep hb)
        clear hb c0 c1 c2 c3 c4 c5
        obtain ⟨_, c0, c1⟩ := HR.out.cl (b7) a0_0 a0_1 (by simp)
        obtain ⟨_, c2, c3⟩ := HR.out.cl (b8) a1_0 a1_1 (by simp)
        obtain ⟨_, c4, c5⟩ := HR.out.cl (b9) a2_0 a2_1 (by simp)
        go_wp2_with fail
        refine (K _ (HT.out.keep HR.out.below) |>.out).mono ?_
        rintro e wq32 ⟨rfl, hb⟩
        have HR := hide (HR.out.keep hb)
        clear hb c0 c1 c2 c3 c4 c5
        go_wp2_with fail
        go_ret
        exact ⟨rfl, HR.out.below⟩
    · have e1 : (E0 == 0) = false := by simpa using h0
      have e2 : (E0 != 0) = true := by simpa using h0
      go_wp2_with fail
      refine ((K0 _).out).mono ?_
      rintro e wq33 ⟨rfl, hb⟩
      have HR := hide (HR.out.keep hb)
      clear hb c0 c1 c2 c3 c4 c5
      obtain ⟨_, c0, c1⟩ := HR.out.cl (b7) a0_0 a0_1 (by simp)
      obtain ⟨_, c2, c3⟩ := HR.out.cl (b8) a1_0 a1_1 (by simp)
      obtain ⟨_, c4, c5⟩ := HR.out.cl (b9) a2_0 a2_1 (by simp)
      go_wp2_with fail
      refine (K _ (HT.out.keep HR.out.below) |>.out).mono ?_
      rintro e wq34 ⟨rfl, hb⟩
      have HR := hide (HR.out.keep hb)
      clear hb c0 c1 c2 c3 c4 c5
      go_wp2_with fail
      go_ret
      exact ⟨rfl, HR.out.below⟩
end Go.Proofs.YtmdgjgeblplhpaaDoor
