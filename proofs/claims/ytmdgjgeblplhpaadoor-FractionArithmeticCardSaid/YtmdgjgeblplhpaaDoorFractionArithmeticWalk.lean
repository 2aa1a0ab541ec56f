/-
  The walk of FractionArithmetic.
-/
import Derived.Test.YtmdgjgeblplhpaaDoorFrC
import Derived.Test.YtmdgjgeblplhpaaDoorFr20
import Derived.Test.YtmdgjgeblplhpaaDoorInv
import Derived.Test.YtmdgjgeblplhpaaDoorBlk
import Derived.Deep.RegionWith
import Derived.Deep.CutBlock
import Derived.Deep.DeepCutAuto
namespace Go.Proofs.YtmdgjgeblplhpaaDoor
open Go.RowKit
set_option linter.unusedVariables false
set_option linter.unusedSimpArgs false

/-- What stays as it was: the two boxes of the arguments. -/
structure RW (w : World) (n1 d1 n2 d2 : Int) (wx : World) : Prop where
  below : Below w.heap.size w wx
  size : w.heap.size + 2 ≤ wx.heap.size
  c0 : wx.cell? ⟨w.heap.size, 0, none⟩ = some (.int .i64 n1)
  c1 : wx.cell? ⟨w.heap.size, 1, none⟩ = some (.int .i64 d1)
  c2 : wx.cell? ⟨w.heap.size + 1, 0, none⟩ = some (.int .i64 n2)
  c3 : wx.cell? ⟨w.heap.size + 1, 1, none⟩ = some (.int .i64 d2)
theorem RW.keep {w wx wy : World} {n1 d1 n2 d2 : Int} (h : RW w n1 d1 n2 d2 wx) (hb : Below wx.heap.size wx wy) : RW w n1 d1 n2 d2 wy := by
  have s := h.size
  have s2 := hb.size
  exact ⟨h.below.trans (hb.mono h.below.size), by omega, (hb.cell (p := ⟨w.heap.size, 0, none⟩) (by simp; omega)).trans h.c0, (hb.cell (p := ⟨w.heap.size, 1, none⟩) (by simp; omega)).trans h.c1,
    (hb.cell (p := ⟨w.heap.size + 1, 0, none⟩) (by simp; omega)).trans h.c2, (hb.cell (p := ⟨w.heap.size + 1, 1, none⟩) (by simp; omega)).trans h.c3⟩
theorem RW.store {w wx : World} {n1 d1 n2 d2 A B : Int} {b : Nat} (h : RW w n1 d1 n2 d2 wx) (lo : w.heap.size + 2 ≤ b) : RW w n1 d1 n2 d2 ((wx.setCell ⟨b, 0, none⟩ (.int .i64 A)).setCell ⟨b, 1, none⟩ (.int .i64 B)) := by
  obtain ⟨hb, s, c0, c1, c2, c3⟩ := h
  have n0 : ¬ b = w.heap.size := by omega
  have n1 : ¬ b = w.heap.size + 1 := by omega
  have n2 : ¬ w.heap.size = b := by omega
  have n3 : ¬ w.heap.size + 1 = b := by omega
  exact ⟨(hb.setCell (by simp; omega) _).setCell (by simp; omega) _, by simpa using s, by simp [go_sem, n0, n1, n2, n3, c0], by simp [go_sem, n0, n1, n2, n3, c1], by simp [go_sem, n0, n1, n2, n3, c2], by simp [go_sem, n0, n1, n2, n3, c3]⟩

set_option maxHeartbeats 4000000 in
set_option maxRecDepth 20000 in
theorem fractionArithmetic_walk (a0_0 a0_1 : Int) (a1_0 a1_1 : Int) (w : World) (w0_0 : (Lit.int .i64 a0_0).wf = true) (w0_1 : (Lit.int .i64 a0_1).wf = true) (w1_0 : (Lit.int .i64 a1_0).wf = true) (w1_1 : (Lit.int .i64 a1_1).wf = true) (hL : laidMetH Tryd.prog laid w) :
    Calls Tryd.prog 5 #[.agg #[.int .i64 a0_0, .int .i64 a0_1], .agg #[.int .i64 a1_0, .int .i64 a1_1]] w fun e w' => e = .returned (.bool true) ∧ Below w.heap.size w w' := by
  have HT := hide (tabs_of hL)
  have i0 := wf64 w0_0
  have i1 := wf64 w0_1
  have i2 := wf64 w1_0
  have i3 := wf64 w1_1
  have CB := fun k k0 k1 w => hide (comb_any k a0_0 a0_1 a1_0 a1_1 w k0 k1 i0 i1 i2 i3)
  have RB := fun k k0 k1 w => hide (rcomb_any k a0_0 a0_1 a1_0 a1_1 w k0 k1 i0 i1 i2 i3)
  have K := fun w T => hide (known_any w T)
  clear hL w0_0 w0_1 w1_0 w1_1 i0 i1 i2 i3
  go_enter Tryd.func5, Tryd.ntmps5
  go_wp2_with fail
  go_loopw [5, 6, 8] (fun s5 s6 s8 wr => ∃ k : Int, s5 = .int .i64 k ∧ 0 ≤ k ∧ k ≤ 4 ∧ Hid (Below w.heap.size w wr) ∧ w.heap.size + 2 ≤ wr.heap.size ∧ wr.cell? ⟨w.heap.size, 0, none⟩ = some (.int .i64 a0_0) ∧ wr.cell? ⟨w.heap.size, 1, none⟩ = some (.int .i64 a0_1) ∧ wr.cell? ⟨w.heap.size + 1, 0, none⟩ = some (.int .i64 a1_0) ∧ wr.cell? ⟨w.heap.size + 1, 1, none⟩ = some (.int .i64 a1_1)) (fun s5 _ _ _ => (4 - intOf s5).toNat)
  case atStart => exact ⟨0, rfl, by decide, by decide, hide (((Below.refl w.heap.size w).alloc (Nat.le_refl _) _).alloc (by simp) _), by simp, by simp [go_sem], by simp [go_sem], by simp [go_sem], by simp [go_sem]⟩
  case round =>
    obtain ⟨k, rfl, k0, k1, HB1, sz1, c0, c1, c2, c3⟩ := hrel
    by_cases hk : k < 4
    · have CBk := fun w => hide (CB k k0 (by omega) w).out
      have RBk := fun w => hide (RB k k0 (by omega) w).out
      clear CB RB
      generalize cbN k a0_0 a0_1 a1_0 a1_1 = A at *
      generalize cbD k a0_0 a0_1 a1_0 a1_1 = B at *
      generalize cbE k a0_0 a0_1 a1_0 a1_1 = E at *
      go_upto_region 4 with fail
      refine wp_region_inv (I := fun f a wx => ∃ v6 v7 v14 v15 v16 v17 v18 v19 v20 v21 v22 : Value, a = { tmps := #[Value.agg #[Value.int IntKind.i64 a0_0, Value.int IntKind.i64 a0_1], Value.agg #[Value.int IntKind.i64 a1_0, Value.int IntKind.i64 a1_1], Value.pointer (some { block := w.heap.size, off := 0 }), Value.pointer (some { block := w.heap.size + 1, off := 0 }), u4, Value.int IntKind.i64 k, v6, v7, u8, u9, Value.int IntKind.i64 k, Value.bool true, u12, u13, v14, v15, v16, v17, v18, v19, v20, v21, v22, u23, u24, u25, u26, u27, u28, u29, u30, u31, u32, u33, u34, u35, u36, u37, u38, undef], defers := [] } ∧ Hid (RW w a0_0 a0_1 a1_0 a1_1 wx) ∧ Hid (f 0 = true → v15 = Value.int IntKind.i64 k) ∧ Hid (f 1 = true → v16 = Value.agg #[Value.int IntKind.i64 a0_0, Value.int IntKind.i64 a0_1]) ∧ Hid (f 2 = true → v17 = Value.agg #[Value.int IntKind.i64 a0_0, Value.int IntKind.i64 a0_1]) ∧ Hid (f 3 = true → v18 = Value.agg #[Value.int IntKind.i64 a1_0, Value.int IntKind.i64 a1_1]) ∧ Hid (f 4 = true → v19 = Value.agg #[Value.int IntKind.i64 a1_0, Value.int IntKind.i64 a1_1]) ∧ Hid (f 5 = true → v20 = Value.tuple #[Value.agg #[Value.int IntKind.i64 A, Value.int IntKind.i64 B], Value.int IntKind.i64 E]) ∧ Hid (f 6 = true → v14 = Value.tuple #[Value.agg #[Value.int IntKind.i64 A, Value.int IntKind.i64 B], Value.int IntKind.i64 E]) ∧ Hid (f 7 = true → v21 = Value.agg #[Value.int IntKind.i64 A, Value.int IntKind.i64 B]) ∧ Hid (f 8 = true → v22 = Value.int IntKind.i64 E) ∧ Hid (f 9 = true → ∃ (b : Nat) (x y : Int), v6 = Value.pointer (some { block := b, off := 0 }) ∧ FB (w.heap.size + 2) b x y wx ∧ (f 10 = true → x = A ∧ y = B)) ∧ Hid (f 10 = true → f 9 = true) ∧ Hid (f 11 = true → v7 = Value.int IntKind.i64 E)) (by kernel_rfl) (by kernel_rfl) ?_ ?_ ?_
      · exact ⟨_, _, _, _, _, _, _, _, _, _, _, rfl, hide (RW.mk HB1.out sz1 c0 c1 c2 c3 |>.keep ((Below.refl _ _).drew)), hide (fun h => Bool.noConfusion h), hide (fun h => Bool.noConfusion h), hide (fun h => Bool.noConfusion h), hide (fun h => Bool.noConfusion h), hide (fun h => Bool.noConfusion h), hide (fun h => Bool.noConfusion h), hide (fun h => Bool.noConfusion h), hide (fun h => Bool.noConfusion h), hide (fun h => Bool.noConfusion h), hide (fun h => Bool.noConfusion h), hide (fun h => Bool.noConfusion h), hide (fun h => Bool.noConfusion h)⟩
      · intro i hi f a wx hfi hB hI
        obtain ⟨v6, v7, v14, v15, v16, v17, v18, v19, v20, v21, v22, rfl, HW, F0, F1, F2, F3, F4, F5, F6, F7, F8, F9, F10, F11⟩ := hI
        clear HB1 c0 c1 c2 c3 sz1
        have hi12 : i < 12 := hi
        have hi3 : i = 0 ∨ i = 1 ∨ i = 2 ∨ i = 3 ∨ i = 4 ∨ i = 5 ∨ i = 6 ∨ i = 7 ∨ i = 8 ∨ i = 9 ∨ i = 10 ∨ i = 11 := by omega
        clear hi hi12
        rcases hi3 with rfl | rfl | rfl | rfl | rfl | rfl | rfl | rfl | rfl | rfl | rfl | rfl
        · skip
          refine wpOp_list' (o := _) rfl (fun K hK => ?_)
          go_wp2_with fail
          exact hK.out _ _ ⟨_, _, _, _, _, _, _, _, _, _, _, rfl, HW, hide (fun _ => rfl), F1, F2, F3, F4, F5, F6, F7, F8, F9, F10, F11⟩
        · skip
          refine wpOp_list' (o := _) rfl (fun K hK => ?_)
          obtain ⟨_, sz, c0, c1, c2, c3⟩ := HW.out
          go_wp2_with fail
          exact hK.out _ _ ⟨_, _, _, _, _, _, _, _, _, _, _, rfl, HW, F0, hide (fun _ => rfl), F2, F3, F4, F5, F6, F7, F8, F9, F10, F11⟩
        · skip
          have d1 := F1.out (hB.dep 1 (by kernel_rfl))
          subst d1
          refine wpOp_list' (o := _) rfl (fun K hK => ?_)
          go_wp2_with fail
          refine (from_any _ _ _).mono ?_
          rintro e wy ⟨rfl, hb⟩
          have HW := hide (HW.out.keep hb)
          have F9 := hide (fun h => (fun ⟨b, x, y, e, fb, g⟩ => ⟨b, x, y, e, fb.keep hb, g⟩ : _ → ∃ (b : Nat) (x y : Int), v6 = Value.pointer (some { block := b, off := 0 }) ∧ FB (w.heap.size + 2) b x y wy ∧ (f 10 = true → x = A ∧ y = B)) (F9.out h))
          go_wp2_with fail
          exact hK.out _ _ ⟨_, _, _, _, _, _, _, _, _, _, _, rfl, HW, F0, hide (fun _ => rfl), hide (fun _ => rfl), F3, F4, F5, F6, F7, F8, F9, F10, F11⟩
        · skip
          refine wpOp_list' (o := _) rfl (fun K hK => ?_)
          obtain ⟨_, sz, c0, c1, c2, c3⟩ := HW.out
          go_wp2_with fail
          exact hK.out _ _ ⟨_, _, _, _, _, _, _, _, _, _, _, rfl, HW, F0, F1, F2, hide (fun _ => rfl), F4, F5, F6, F7, F8, F9, F10, F11⟩
        · skip
          have d3 := F3.out (hB.dep 3 (by kernel_rfl))
          subst d3
          refine wpOp_list' (o := _) rfl (fun K hK => ?_)
          go_wp2_with fail
          refine (from_any _ _ _).mono ?_
          rintro e wy ⟨rfl, hb⟩
          have HW := hide (HW.out.keep hb)
          have F9 := hide (fun h => (fun ⟨b, x, y, e, fb, g⟩ => ⟨b, x, y, e, fb.keep hb, g⟩ : _ → ∃ (b : Nat) (x y : Int), v6 = Value.pointer (some { block := b, off := 0 }) ∧ FB (w.heap.size + 2) b x y wy ∧ (f 10 = true → x = A ∧ y = B)) (F9.out h))
          go_wp2_with fail
          exact hK.out _ _ ⟨_, _, _, _, _, _, _, _, _, _, _, rfl, HW, F0, F1, F2, hide (fun _ => rfl), hide (fun _ => rfl), F5, F6, F7, F8, F9, F10, F11⟩
        · skip
          have d0 := F0.out (hB.dep 0 (by kernel_rfl))
          subst d0
          have d2 := F2.out (hB.dep 2 (by kernel_rfl))
          subst d2
          have d4 := F4.out (hB.dep 4 (by kernel_rfl))
          subst d4
          refine wpOp_list' (o := _) rfl (fun K hK => ?_)
          go_wp2_with fail
          refine ((CBk _).out).mono ?_
          rintro e wy ⟨rfl, hb⟩
          have HW := hide (HW.out.keep hb)
          have F9 := hide (fun h => (fun ⟨b, x, y, e, fb, g⟩ => ⟨b, x, y, e, fb.keep hb, g⟩ : _ → ∃ (b : Nat) (x y : Int), v6 = Value.pointer (some { block := b, off := 0 }) ∧ FB (w.heap.size + 2) b x y wy ∧ (f 10 = true → x = A ∧ y = B)) (F9.out h))
          go_wp2_with fail
          exact hK.out _ _ ⟨_, _, _, _, _, _, _, _, _, _, _, rfl, HW, hide (fun _ => rfl), F1, hide (fun _ => rfl), F3, hide (fun _ => rfl), hide (fun _ => rfl), F6, F7, F8, F9, F10, F11⟩
        · skip
          have d5 := F5.out (hB.dep 5 (by kernel_rfl))
          subst d5
          refine wpOp_list' (o := _) rfl (fun K hK => ?_)
          go_wp2_with fail
          exact hK.out _ _ ⟨_, _, _, _, _, _, _, _, _, _, _, rfl, HW, F0, F1, F2, F3, F4, hide (fun _ => rfl), hide (fun _ => rfl), F7, F8, F9, F10, F11⟩
        · skip
          have d6 := F6.out (hB.dep 6 (by kernel_rfl))
          subst d6
          refine wpOp_list' (o := _) rfl (fun K hK => ?_)
          go_wp2_with fail
          exact hK.out _ _ ⟨_, _, _, _, _, _, _, _, _, _, _, rfl, HW, F0, F1, F2, F3, F4, F5, hide (fun _ => rfl), hide (fun _ => rfl), F8, F9, F10, F11⟩
        · skip
          have d6 := F6.out (hB.dep 6 (by kernel_rfl))
          subst d6
          refine wpOp_list' (o := _) rfl (fun K hK => ?_)
          go_wp2_with fail
          exact hK.out _ _ ⟨_, _, _, _, _, _, _, _, _, _, _, rfl, HW, F0, F1, F2, F3, F4, F5, hide (fun _ => rfl), F7, hide (fun _ => rfl), F9, F10, F11⟩
        · skip
          refine wpOp_list' (o := _) rfl (fun K hK => ?_)
          go_wp2_with fail
          have s2 := HW.out.size
          have HW := hide (HW.out.keep ((Below.refl _ _).alloc (Nat.le_refl _) (Obj.cells #[Value.int IntKind.i64 0, Value.int IntKind.i64 0] 23)))
          exact hK.out _ _ ⟨_, _, _, _, _, _, _, _, _, _, _, rfl, HW, F0, F1, F2, F3, F4, F5, F6, F7, F8, hide (fun _ => ⟨_, 0, 0, rfl, ⟨s2, by simp, by simp [go_sem], by simp [go_sem], by simp [go_sem], by simp [go_sem]⟩, fun h => by have := F10.out h; rw [hfi] at this; cases this⟩), hide (fun _ => rfl), F11⟩
        · skip
          have d7 := F7.out (hB.dep 7 (by kernel_rfl))
          subst d7
          refine wpOp_list' (o := _) rfl (fun K hK => ?_)
          have h9 := hB.dep 9 (by kernel_rfl)
          obtain ⟨b, x, y, rfl, fb, _⟩ := F9.out h9
          obtain ⟨lo, hi2, c0, c1, z0, z1⟩ := fb
          have H9 := hide h9
          clear h9
          go_wp2_with fail
          have HW := hide (HW.out.store (A := A) (B := B) lo)
          exact hK.out _ _ ⟨_, _, _, _, _, _, _, _, _, _, _, rfl, HW, F0, F1, F2, F3, F4, F5, F6, hide (fun _ => rfl), F8, hide (fun _ => ⟨b, A, B, rfl, FB.store ⟨lo, hi2, c0, c1, z0, z1⟩ A B, fun _ => ⟨rfl, rfl⟩⟩), hide (fun _ => H9.out), F11⟩
        · skip
          have d8 := F8.out (hB.dep 8 (by kernel_rfl))
          subst d8
          refine wpOp_list' (o := _) rfl (fun K hK => ?_)
          go_wp2_with fail
          exact hK.out _ _ ⟨_, _, _, _, _, _, _, _, _, _, _, rfl, HW, F0, F1, F2, F3, F4, F5, F6, F7, hide (fun _ => rfl), F9, F10, hide (fun _ => rfl)⟩
      · intro f a wx hall hI
        obtain ⟨v6, v7, v14, v15, v16, v17, v18, v19, v20, v21, v22, rfl, HW, F0, F1, F2, F3, F4, F5, F6, F7, F8, F9, F10, F11⟩ := hI
        have e0 := F7.out (hall 7 (by decide))
        have e1 := F11.out (hall 11 (by decide))
        obtain ⟨b, x, y, rfl, fb, g⟩ := F9.out (hall 9 (by decide))
        obtain ⟨rfl, rfl⟩ := g (hall 10 (by decide))
        subst e1
        clear e0 F0 F1 F2 F3 F4 F5 F6 F7 F8 F9 F10 F11 hall HB1 c0 c1 c2 c3 sz1 CBk
        have HF := hide fb
        clear fb
        obtain ⟨_, sz, c0, c1, c2, c3⟩ := id HW.out
        go_wp2_with fail
        refine (RBk _).out.mono ?_
        rintro e wy ⟨rfl, hb⟩
        have HW := hide (HW.out.keep hb)
        have HF := hide (HF.out.keep hb)
        clear hb c0 c1 c2 c3 sz
        go_wp2_with fail
        have HW := hide (HW.out.keep ((Below.refl _ _).alloc (Nat.le_refl _) (Obj.cells #[Value.int IntKind.i64 x, Value.int IntKind.i64 y] 27)))
        have HF := hide (HF.out.keep ((Below.refl _ _).alloc (Nat.le_refl _) (Obj.cells #[Value.int IntKind.i64 x, Value.int IntKind.i64 y] 27)))
        have f2 : (wy.alloc (Obj.cells #[Value.int IntKind.i64 x, Value.int IntKind.i64 y] 27)).cell? ⟨wy.heap.size, 0, none⟩ = some (Value.int .i64 x) := by simp [go_sem]
        have f3 : (wy.alloc (Obj.cells #[Value.int IntKind.i64 x, Value.int IntKind.i64 y] 27)).cell? ⟨wy.heap.size, 1, none⟩ = some (Value.int .i64 y) := by simp [go_sem]
        have zW : wy.heap.size + 1 ≤ (wy.alloc (Obj.cells #[Value.int IntKind.i64 x, Value.int IntKind.i64 y] 27)).heap.size := by simp
        generalize wy.alloc (Obj.cells #[Value.int IntKind.i64 x, Value.int IntKind.i64 y] 27) = W at *
        obtain ⟨lo, hi, f0, f1, _, _⟩ := id HF.out
        have k0 : ∀ z : Sub W, z.val.cell? ⟨b, 0, none⟩ = some (Value.int .i64 x) := fun z => (z.below.cell (p := ⟨b, 0, none⟩) (by simp; omega)).trans f0
        have k1 : ∀ z : Sub W, z.val.cell? ⟨b, 1, none⟩ = some (Value.int .i64 y) := fun z => (z.below.cell (p := ⟨b, 1, none⟩) (by simp; omega)).trans f1
        have k2 : ∀ z : Sub W, z.val.cell? ⟨wy.heap.size, 0, none⟩ = some (Value.int .i64 x) := fun z => (z.below.cell (p := ⟨wy.heap.size, 0, none⟩) (by simp; omega)).trans f2
        have k3 : ∀ z : Sub W, z.val.cell? ⟨wy.heap.size, 1, none⟩ = some (Value.int .i64 y) := fun z => (z.below.cell (p := ⟨wy.heap.size, 1, none⟩) (by simp; omega)).trans f3
        refine wp_region_sub (w0 := W) (by kernel_rfl) (by kernel_rfl) (Below.refl _ _).drew ?_
        repeat (first | go_big_quiet_step ((go_at_call 14; exact sub_of _ (to_any _ _ _))) | quiet_step ((go_at_call 14; exact sub_of _ (to_any _ _ _))))
        refine wpQuiet_nil ?_
        rintro _ ⟨z, rfl⟩
        have HW := hide (HW.out.keep z.below)
        clear HF k0 k1 k2 k3 f0 f1 f2 f3
        go_wp2_with fail
        have s := HW.out.size
        go_roundw
        case rel => exact ⟨k + 1, by go_simp, by omega, by omega, hide HW.out.below, s, HW.out.c0, HW.out.c1, HW.out.c2, HW.out.c3⟩
        case measure => simp [intOf]; omega
    · have FT := hide (HT.out.keep HB1.out)
      clear CB RB c0 c1 c2 c3
      go_wp2_with fail
      refine (K _ FT.out).out.mono ?_
      rintro e w5 ⟨rfl, hb⟩
      have HB5 := hide (HB1.out.trans (hb.mono HB1.out.size))
      clear hb
      go_wp2_with fail
      go_ret
      exact ⟨rfl, HB5.out⟩
end Go.Proofs.YtmdgjgeblplhpaaDoor
