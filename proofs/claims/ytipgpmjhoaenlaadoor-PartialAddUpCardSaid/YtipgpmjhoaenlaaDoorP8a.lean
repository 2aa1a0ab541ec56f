/-
  Split, step by step, at this translation.
-/
import Derived.Test.YtipgpmjhoaenlaaDoorP7b
namespace Go.Proofs.YtipgpmjhoaenlaaDoor
open Go.RowKit
set_option linter.unusedVariables false
set_option linter.unusedSimpArgs false

set_option maxHeartbeats 8000000 in
set_option maxRecDepth 20000 in
theorem split_lt (t : Tr) (n : Int) (w : World) (S : Shp w) (h : t.Ok) (hE : tE t = 0) (hA : alB t = true) (hP : ptB t n = true) (hlt : t.q - n < t.ml) : Calls Tryd.prog 15 #[.agg #[.int .i64 t.k, .string t.d, .string t.r, .string t.a, .int .i64 t.q, .int .i64 t.m, .int .i64 t.td, .int .i64 t.sd, .int .i64 t.p, .bool t.pa, .int .i64 t.ml, .string t.r0, .string t.r1], .int .i64 n] w fun e w' => e = .returned (.tuple #[.agg #[.int .i64 t.k, .string t.d, .string t.r, .string t.a, .int .i64 n, .int .i64 (csh t n), .int .i64 t.td, .int .i64 t.sd, .int .i64 t.p, .bool false, .int .i64 0, .string t.r0, .string t.r1], .agg #[.int .i64 t.k, .string t.d, .string t.r, .string t.a, .int .i64 (t.q - n), .int .i64 (t.m - csh t n), .int .i64 t.td, .int .i64 t.sd, .int .i64 t.p, .bool false, .int .i64 0, .string t.r0, .string t.r1], .int .i64 0]) ∧ Below w.heap.size w w' := by
  obtain ⟨n1, nq, q2, m2, v0, vm, ce, cv⟩ := spl_of hE hP
  have S := hide S
  have CK := fun w S => hide (tcheck_any t w S h)
  have AL := fun w S => hide (al_any t w S h)
  have PT := fun w S => hide (part_any t n w S h hA)
  have CA := fun w S => hide (cash_any t n w S h)
  rw [hE] at CK
  rw [hA] at AL
  rw [hP] at PT
  rw [ce, cv] at CA
  have hml := h.ml
  clear h hE hA hP ce cv
  have hlt2 := hlt
  clear hlt
  generalize csh t n = V at *
  have HW : Hid (WS w t (((w.alloc (Obj.cells #[.int .i64 t.k, .string t.d, .string t.r, .string t.a, .int .i64 t.q, .int .i64 t.m, .int .i64 t.td, .int .i64 t.sd, .int .i64 t.p, .bool t.pa, .int .i64 t.ml, .string t.r0, .string t.r1] 25)).alloc (Obj.cells #[.int .i64 zT.k, .string zT.d, .string zT.r, .string zT.a, .int .i64 zT.q, .int .i64 zT.m, .int .i64 zT.td, .int .i64 zT.sd, .int .i64 zT.p, .bool zT.pa, .int .i64 zT.ml, .string zT.r0, .string zT.r1] 25)).alloc (Obj.cells #[.int .i64 zT.k, .string zT.d, .string zT.r, .string zT.a, .int .i64 zT.q, .int .i64 zT.m, .int .i64 zT.td, .int .i64 zT.sd, .int .i64 zT.p, .bool zT.pa, .int .i64 zT.ml, .string zT.r0, .string zT.r1] 25))) := by
    have s4 : (w.alloc (Obj.cells #[.int .i64 t.k, .string t.d, .string t.r, .string t.a, .int .i64 t.q, .int .i64 t.m, .int .i64 t.td, .int .i64 t.sd, .int .i64 t.p, .bool t.pa, .int .i64 t.ml, .string t.r0, .string t.r1] 25)).heap.size = w.heap.size + 1 := by simp
    have s5 : ((w.alloc (Obj.cells #[.int .i64 t.k, .string t.d, .string t.r, .string t.a, .int .i64 t.q, .int .i64 t.m, .int .i64 t.td, .int .i64 t.sd, .int .i64 t.p, .bool t.pa, .int .i64 t.ml, .string t.r0, .string t.r1] 25)).alloc (Obj.cells #[.int .i64 zT.k, .string zT.d, .string zT.r, .string zT.a, .int .i64 zT.q, .int .i64 zT.m, .int .i64 zT.td, .int .i64 zT.sd, .int .i64 zT.p, .bool zT.pa, .int .i64 zT.ml, .string zT.r0, .string zT.r1] 25)).heap.size = w.heap.size + 1 + 1 := by simp
    have H4 := ((RB.new zT (w.alloc (Obj.cells #[.int .i64 t.k, .string t.d, .string t.r, .string t.a, .int .i64 t.q, .int .i64 t.m, .int .i64 t.td, .int .i64 t.sd, .int .i64 t.p, .bool t.pa, .int .i64 t.ml, .string t.r0, .string t.r1] 25)) 25).keep (one_alloc _ (Obj.cells #[.int .i64 zT.k, .string zT.d, .string zT.r, .string zT.a, .int .i64 zT.q, .int .i64 zT.m, .int .i64 zT.td, .int .i64 zT.sd, .int .i64 zT.p, .bool zT.pa, .int .i64 zT.ml, .string zT.r0, .string zT.r1] 25)))
    have H5 := (RB.new zT ((w.alloc (Obj.cells #[.int .i64 t.k, .string t.d, .string t.r, .string t.a, .int .i64 t.q, .int .i64 t.m, .int .i64 t.td, .int .i64 t.sd, .int .i64 t.p, .bool t.pa, .int .i64 t.ml, .string t.r0, .string t.r1] 25)).alloc (Obj.cells #[.int .i64 zT.k, .string zT.d, .string zT.r, .string zT.a, .int .i64 zT.q, .int .i64 zT.m, .int .i64 zT.td, .int .i64 zT.sd, .int .i64 zT.p, .bool zT.pa, .int .i64 zT.ml, .string zT.r0, .string zT.r1] 25)) 25)
    rw [s4] at H4
    rw [s5] at H5
    exact ⟨((one_alloc w (Obj.cells #[.int .i64 t.k, .string t.d, .string t.r, .string t.a, .int .i64 t.q, .int .i64 t.m, .int .i64 t.td, .int .i64 t.sd, .int .i64 t.p, .bool t.pa, .int .i64 t.ml, .string t.r0, .string t.r1] 25)).alloc (by simp) (Obj.cells #[.int .i64 zT.k, .string zT.d, .string zT.r, .string zT.a, .int .i64 zT.q, .int .i64 zT.m, .int .i64 zT.td, .int .i64 zT.sd, .int .i64 zT.p, .bool zT.pa, .int .i64 zT.ml, .string zT.r0, .string zT.r1] 25)).alloc (by simp; omega) (Obj.cells #[.int .i64 zT.k, .string zT.d, .string zT.r, .string zT.a, .int .i64 zT.q, .int .i64 zT.m, .int .i64 zT.td, .int .i64 zT.sd, .int .i64 zT.p, .bool zT.pa, .int .i64 zT.ml, .string zT.r0, .string zT.r1] 25), ((TB.new t w 25).keep (one_alloc _ (Obj.cells #[.int .i64 zT.k, .string zT.d, .string zT.r, .string zT.a, .int .i64 zT.q, .int .i64 zT.m, .int .i64 zT.td, .int .i64 zT.sd, .int .i64 zT.p, .bool zT.pa, .int .i64 zT.ml, .string zT.r0, .string zT.r1] 25))).keep (one_alloc _ (Obj.cells #[.int .i64 zT.k, .string zT.d, .string zT.r, .string zT.a, .int .i64 zT.q, .int .i64 zT.m, .int .i64 zT.td, .int .i64 zT.sd, .int .i64 zT.p, .bool zT.pa, .int .i64 zT.ml, .string zT.r0, .string zT.r1] 25)), H4, H5⟩
  go_enter Tryd.func15, Tryd.ntmps15
  obtain ⟨_, c0, c1, c2, c3, c4, c5, c6, c7, c8, c9, c10, c11, c12⟩ := HW.out.b0
  go_wp2_with fail
  refine ((CK _ (S.out.keep HW.out.below)).out).mono ?_
  rintro e x1 ⟨rfl, hb⟩
  clear c0 c1 c2 c3 c4 c5 c6 c7 c8 c9 c10 c11 c12
  have HW := hide (HW.out.keep hb)
  clear hb
  obtain ⟨_, c0, c1, c2, c3, c4, c5, c6, c7, c8, c9, c10, c11, c12⟩ := HW.out.b0
  go_wp2_with fail
  refine ((AL _ (S.out.keep HW.out.below)).out).mono ?_
  rintro e x2 ⟨rfl, hb⟩
  clear c0 c1 c2 c3 c4 c5 c6 c7 c8 c9 c10 c11 c12
  have HW := hide (HW.out.keep hb)
  clear hb
  obtain ⟨_, c0, c1, c2, c3, c4, c5, c6, c7, c8, c9, c10, c11, c12⟩ := HW.out.b0
  go_wp2_with fail
  refine ((PT _ (S.out.keep HW.out.below)).out).mono ?_
  rintro e x3 ⟨rfl, hb⟩
  clear c0 c1 c2 c3 c4 c5 c6 c7 c8 c9 c10 c11 c12
  have HW := hide (HW.out.keep hb)
  clear hb
  obtain ⟨_, c0, c1, c2, c3, c4, c5, c6, c7, c8, c9, c10, c11, c12⟩ := HW.out.b0
  go_wp2_with fail
  clear c0 c1 c2 c3 c4 c5 c6 c7 c8 c9 c10 c11 c12
  refine wp_region_inv (I := fun f a wx => ∃ (v28 v29 v8 v9 : Value) (p q : Nat) (tp tq : Tr), a = { tmps := #[Value.agg #[Value.int IntKind.i64 t.k, Value.string t.d, Value.string t.r, Value.string t.a, Value.int IntKind.i64 t.q, Value.int IntKind.i64 t.m, Value.int IntKind.i64 t.td, Value.int IntKind.i64 t.sd, Value.int IntKind.i64 t.p, Value.bool t.pa, Value.int IntKind.i64 t.ml, Value.string t.r0, Value.string t.r1], Value.int IntKind.i64 n, Value.pointer (some { block := w.heap.size, off := 0 }), undef, Value.pointer (some { block := w.heap.size + 1, off := 0 }), Value.pointer (some { block := w.heap.size + 1 + 1, off := 0 }), Value.int IntKind.i64 0, Value.int IntKind.i64 0, v8, v9, Value.agg #[Value.int IntKind.i64 t.k, Value.string t.d, Value.string t.r, Value.string t.a, Value.int IntKind.i64 t.q, Value.int IntKind.i64 t.m, Value.int IntKind.i64 t.td, Value.int IntKind.i64 t.sd, Value.int IntKind.i64 t.p, Value.bool t.pa, Value.int IntKind.i64 t.ml, Value.string t.r0, Value.string t.r1], Value.int IntKind.i64 0, Value.int IntKind.i64 0, Value.bool false, undef, undef, undef, Value.agg #[Value.int IntKind.i64 t.k, Value.string t.d, Value.string t.r, Value.string t.a, Value.int IntKind.i64 t.q, Value.int IntKind.i64 t.m, Value.int IntKind.i64 t.td, Value.int IntKind.i64 t.sd, Value.int IntKind.i64 t.p, Value.bool t.pa, Value.int IntKind.i64 t.ml, Value.string t.r0, Value.string t.r1], Value.bool true, Value.bool false, undef, undef, Value.agg #[Value.int IntKind.i64 t.k, Value.string t.d, Value.string t.r, Value.string t.a, Value.int IntKind.i64 t.q, Value.int IntKind.i64 t.m, Value.int IntKind.i64 t.td, Value.int IntKind.i64 t.sd, Value.int IntKind.i64 t.p, Value.bool t.pa, Value.int IntKind.i64 t.ml, Value.string t.r0, Value.string t.r1], Value.int IntKind.i64 n, Value.bool true, Value.bool false, undef, undef, v28, v29, undef, undef, undef, undef, undef, undef, undef, undef, undef, undef, undef, undef, undef, undef, undef, undef, undef, undef, undef, undef, undef, undef, undef, undef, undef, undef, undef, undef, undef, undef, undef], defers := [] } ∧ Hid (WS w t wx) ∧ Hid (f 0 = true → v28 = Value.agg #[Value.int IntKind.i64 t.k, Value.string t.d, Value.string t.r, Value.string t.a, Value.int IntKind.i64 t.q, Value.int IntKind.i64 t.m, Value.int IntKind.i64 t.td, Value.int IntKind.i64 t.sd, Value.int IntKind.i64 t.p, Value.bool t.pa, Value.int IntKind.i64 t.ml, Value.string t.r0, Value.string t.r1]) ∧ Hid (f 1 = true → v29 = Value.agg #[Value.int IntKind.i64 t.k, Value.string t.d, Value.string t.r, Value.string t.a, Value.int IntKind.i64 t.q, Value.int IntKind.i64 t.m, Value.int IntKind.i64 t.td, Value.int IntKind.i64 t.sd, Value.int IntKind.i64 t.p, Value.bool t.pa, Value.int IntKind.i64 t.ml, Value.string t.r0, Value.string t.r1]) ∧ Hid (f 2 = true → v8 = Value.pointer (some { block := p, off := 0 }) ∧ RB p tp wx ∧ w.heap.size + 1 + 1 < p ∧ (f 4 = true → tp = t)) ∧ Hid (f 3 = true → v9 = Value.pointer (some { block := q, off := 0 }) ∧ RB q tq wx ∧ w.heap.size + 1 + 1 < q ∧ (f 5 = true → tq = t)) ∧ Hid (f 2 = true → f 3 = true → p ≠ q) ∧ Hid (f 4 = true → f 2 = true) ∧ Hid (f 5 = true → f 3 = true)) (by kernel_rfl) (by kernel_rfl) ?_ ?_ ?_
  · exact ⟨_, _, _, _, 0, 0, zT, zT, rfl, hide (HW.out.keep (Below.refl _ _).drew), hide (fun h => Bool.noConfusion h), hide (fun h => Bool.noConfusion h), hide (fun h => Bool.noConfusion h), hide (fun h => Bool.noConfusion h), hide (fun h => Bool.noConfusion h), hide (fun h => Bool.noConfusion h), hide (fun h => Bool.noConfusion h)⟩
  · intro i hi f a wx hfi hB hI
    obtain ⟨v28, v29, v8, v9, p, q, tp, tq, rfl, HW, F0, F1, A2, A3, DD, R4, R5⟩ := hI
    have hi6 : i < 6 := hi
    have hi3 : i = 0 ∨ i = 1 ∨ i = 2 ∨ i = 3 ∨ i = 4 ∨ i = 5 := by omega
    clear hi hi6
    rcases hi3 with rfl | rfl | rfl | rfl | rfl | rfl
    · skip
      refine wpOp_list' (o := _) rfl (fun K hK => ?_)
      obtain ⟨_, c0, c1, c2, c3, c4, c5, c6, c7, c8, c9, c10, c11, c12⟩ := HW.out.b0
      go_wp2_with fail
      exact hK.out _ _ ⟨_, _, _, _, p, q, tp, tq, rfl, HW, hide (fun _ => rfl), F1, A2, A3, DD, R4, R5⟩
    · skip
      refine wpOp_list' (o := _) rfl (fun K hK => ?_)
      obtain ⟨_, c0, c1, c2, c3, c4, c5, c6, c7, c8, c9, c10, c11, c12⟩ := HW.out.b0
      go_wp2_with fail
      exact hK.out _ _ ⟨_, _, _, _, p, q, tp, tq, rfl, HW, F0, hide (fun _ => rfl), A2, A3, DD, R4, R5⟩
    · skip
      refine wpOp_list' (o := _) rfl (fun K hK => ?_)
      go_wp2_with fail
      have s5 := HW.out.b5.tb.lt
      have BX := hide (fun h => (A3.out h).2.1.tb.lt)
      have HW := hide (HW.out.keep (one_alloc wx (Obj.cells #[.int .i64 zT.k, .string zT.d, .string zT.r, .string zT.a, .int .i64 zT.q, .int .i64 zT.m, .int .i64 zT.td, .int .i64 zT.sd, .int .i64 zT.p, .bool zT.pa, .int .i64 zT.ml, .string zT.r0, .string zT.r1] 25)))
      have A3 := hide (fun h => And.intro (A3.out h).1 (And.intro ((A3.out h).2.1.keep (one_alloc wx (Obj.cells #[.int .i64 zT.k, .string zT.d, .string zT.r, .string zT.a, .int .i64 zT.q, .int .i64 zT.m, .int .i64 zT.td, .int .i64 zT.sd, .int .i64 zT.p, .bool zT.pa, .int .i64 zT.ml, .string zT.r0, .string zT.r1] 25))) (A3.out h).2.2))
      exact hK.out _ _ ⟨_, _, _, _, wx.heap.size, q, zT, tq, rfl, HW, F0, F1, hide (fun _ => ⟨rfl, RB.new zT wx 25, s5, fun h => by have := R4.out h; rw [hfi] at this; cases this⟩), A3, hide (fun _ h => by have := BX.out h; omega), hide (fun _ => rfl), R5⟩
    · skip
      refine wpOp_list' (o := _) rfl (fun K hK => ?_)
      go_wp2_with fail
      have s5 := HW.out.b5.tb.lt
      have BX := hide (fun h => (A2.out h).2.1.tb.lt)
      have HW := hide (HW.out.keep (one_alloc wx (Obj.cells #[.int .i64 zT.k, .string zT.d, .string zT.r, .string zT.a, .int .i64 zT.q, .int .i64 zT.m, .int .i64 zT.td, .int .i64 zT.sd, .int .i64 zT.p, .bool zT.pa, .int .i64 zT.ml, .string zT.r0, .string zT.r1] 25)))
      have A2 := hide (fun h => And.intro (A2.out h).1 (And.intro ((A2.out h).2.1.keep (one_alloc wx (Obj.cells #[.int .i64 zT.k, .string zT.d, .string zT.r, .string zT.a, .int .i64 zT.q, .int .i64 zT.m, .int .i64 zT.td, .int .i64 zT.sd, .int .i64 zT.p, .bool zT.pa, .int .i64 zT.ml, .string zT.r0, .string zT.r1] 25))) (A2.out h).2.2))
      exact hK.out _ _ ⟨_, _, _, _, p, wx.heap.size, tp, zT, rfl, HW, F0, F1, A2, hide (fun _ => ⟨rfl, RB.new zT wx 25, s5, fun h => by have := R5.out h; rw [hfi] at this; cases this⟩), hide (fun h _ => by have := BX.out h; omega), R4, hide (fun _ => rfl)⟩
    · skip
      have h6 := hB.dep 2 (by kernel_rfl)
      have d := F0.out (hB.dep 0 (by kernel_rfl))
      subst d
      obtain ⟨rfl, fb, lo, _⟩ := A2.out h6
      have H6 := hide h6
      have FB := hide fb
      have LO := hide lo
      clear h6 lo
      obtain ⟨⟨_, c0, c1, c2, c3, c4, c5, c6, c7, c8, c9, c10, c11, c12⟩, zf⟩ := fb
      refine wpOp_list' (o := _) rfl (fun K hK => ?_)
      go_wp2_with fail
      have HW := hide (HW.out.put t LO.out)
      have A3 := hide (fun h => And.intro (A3.out h).1 (And.intro ((A3.out h).2.1.puto (p := p) t (fun e => DD.out H6.out h e.symm)) (A3.out h).2.2))
      exact hK.out _ _ ⟨_, _, _, _, p, q, t, tq, rfl, HW, hide (fun _ => rfl), F1, hide (fun _ => ⟨rfl, FB.out.put t, LO.out, fun _ => rfl⟩), A3, DD, hide (fun _ => H6.out), R5⟩
    · skip
      have h6 := hB.dep 3 (by kernel_rfl)
      have d := F1.out (hB.dep 1 (by kernel_rfl))
      subst d
      obtain ⟨rfl, fb, lo, _⟩ := A3.out h6
      have H6 := hide h6
      have FB := hide fb
      have LO := hide lo
      clear h6 lo
      obtain ⟨⟨_, c0, c1, c2, c3, c4, c5, c6, c7, c8, c9, c10, c11, c12⟩, zf⟩ := fb
      refine wpOp_list' (o := _) rfl (fun K hK => ?_)
      go_wp2_with fail
      have HW := hide (HW.out.put t LO.out)
      have A2 := hide (fun h => And.intro (A2.out h).1 (And.intro ((A2.out h).2.1.puto (p := q) t (DD.out h H6.out)) (A2.out h).2.2))
      exact hK.out _ _ ⟨_, _, _, _, p, q, tp, t, rfl, HW, F0, hide (fun _ => rfl), A2, hide (fun _ => ⟨rfl, FB.out.put t, LO.out, fun _ => rfl⟩), DD, R4, hide (fun _ => H6.out)⟩
  · intro f a wx hall hI
    obtain ⟨v28, v29, v8, v9, p, q, tp, tq, rfl, HW, F0, F1, A2, A3, DD, R4, R5⟩ := hI
    have e0 := F0.out (hall 0 (by decide))
    subst e0
    have e1 := F1.out (hall 1 (by decide))
    subst e1
    obtain ⟨rfl, H8, g2, e4⟩ := A2.out (hall 2 (by decide))
    have e4 := (e4 (hall 4 (by decide))).symm
    subst e4
    obtain ⟨rfl, H9, g3, e5⟩ := A3.out (hall 3 (by decide))
    have e5 := (e5 (hall 5 (by decide))).symm
    subst e5
    have g1 := DD.out (hall 2 (by decide)) (hall 3 (by decide))
    have H8 := hide H8
    have H9 := hide H9
    have HR := hide HW.out.below
    have HB := hide HW.out.b0
    have H4 := hide HW.out.b4
    have H5 := hide HW.out.b5
    clear F0 F1 A2 A3 DD R4 R5 hall HW
    have g4 : ¬ w.heap.size = p := by omega
    have g5 : ¬ p = w.heap.size := by omega
    obtain ⟨_, c0, c1, c2, c3, c4, c5, c6, c7, c8, c9, c10, c11, c12⟩ := HB.out
    go_wp2_with fail
    refine ((CA _ (S.out.keep HR.out)).out).mono ?_
    rintro e x4 ⟨rfl, hb⟩
    clear c0 c1 c2 c3 c4 c5 c6 c7 c8 c9 c10 c11 c12
    have HB := hide (HB.out.keep hb)
    have H4 := hide (H4.out.keep hb)
    have H5 := hide (H5.out.keep hb)
    have H8 := hide (H8.out.keep hb)
    have H9 := hide (H9.out.keep hb)
    have HR := hide (HR.out.trans (hb.mono HR.out.size))
    clear hb
    obtain ⟨⟨_, d0, d1, d2, d3, d4, d5, d6, d7, d8, d9, d10, d11, d12⟩, zp⟩ := H8.out
    obtain ⟨_, c0, c1, c2, c3, c4, c5, c6, c7, c8, c9, c10, c11, c12⟩ := HB.out
    go_wp2_with fail
    clear c0 c1 c2 c3 c4 c5 c6 c7 c8 c9 c10 c11 c12 d0 d1 d2 d3 d4 d5 d6 d7 d8 d9 d10 d11 d12 zp
    have H8 := hide (show RB p (⟨t.k, t.d, t.r, t.a, n, V, t.td, t.sd, t.p, false, 0, t.r0, t.r1⟩ : Tr) ((((x4.setCell { block := p, off := 5 } (Value.int IntKind.i64 V)).setCell { block := p, off := 4 } (Value.int IntKind.i64 n)).setCell { block := p, off := 9 } (Value.bool false)).setCell { block := p, off := 10 } (Value.int IntKind.i64 0)) from RB.set10 0 (RB.set9 false (RB.set4 n (RB.set5 V H8.out))))
    have H9 := hide (show RB q t ((((x4.setCell { block := p, off := 5 } (Value.int IntKind.i64 V)).setCell { block := p, off := 4 } (Value.int IntKind.i64 n)).setCell { block := p, off := 9 } (Value.bool false)).setCell { block := p, off := 10 } (Value.int IntKind.i64 0)) from (((H9.out.other (Ne.symm g1)).other (Ne.symm g1)).other (Ne.symm g1)).other (Ne.symm g1))
    have HB := hide (show TB w.heap.size t ((((x4.setCell { block := p, off := 5 } (Value.int IntKind.i64 V)).setCell { block := p, off := 4 } (Value.int IntKind.i64 n)).setCell { block := p, off := 9 } (Value.bool false)).setCell { block := p, off := 10 } (Value.int IntKind.i64 0)) from (((HB.out.other g4).other g4).other g4).other g4)
    have gx : w.heap.size + 1 ≠ p := by omega
    have H4 := hide (show RB (w.heap.size + 1) zT ((((x4.setCell { block := p, off := 5 } (Value.int IntKind.i64 V)).setCell { block := p, off := 4 } (Value.int IntKind.i64 n)).setCell { block := p, off := 9 } (Value.bool false)).setCell { block := p, off := 10 } (Value.int IntKind.i64 0)) from (((H4.out.other gx).other gx).other gx).other gx)
    clear gx
    have gx : w.heap.size + 1 + 1 ≠ p := by omega
    have H5 := hide (show RB (w.heap.size + 1 + 1) zT ((((x4.setCell { block := p, off := 5 } (Value.int IntKind.i64 V)).setCell { block := p, off := 4 } (Value.int IntKind.i64 n)).setCell { block := p, off := 9 } (Value.bool false)).setCell { block := p, off := 10 } (Value.int IntKind.i64 0)) from (((H5.out.other gx).other gx).other gx).other gx)
    clear gx
    have HR := hide (show Below w.heap.size w ((((x4.setCell { block := p, off := 5 } (Value.int IntKind.i64 V)).setCell { block := p, off := 4 } (Value.int IntKind.i64 n)).setCell { block := p, off := 9 } (Value.bool false)).setCell { block := p, off := 10 } (Value.int IntKind.i64 0)) from (((HR.out.setCell (by simp; omega) _).setCell (by simp; omega) _).setCell (by simp; omega) _).setCell (by simp; omega) _)
    generalize ((((x4.setCell { block := p, off := 5 } (Value.int IntKind.i64 V)).setCell { block := p, off := 4 } (Value.int IntKind.i64 n)).setCell { block := p, off := 9 } (Value.bool false)).setCell { block := p, off := 10 } (Value.int IntKind.i64 0)) = Y at *
    have g6 : ¬ w.heap.size = q := by omega
    have g7 : ¬ q = w.heap.size := by omega
    have g8 : ¬ p = q := g1
    have g9 : ¬ q = p := fun e => g1 e.symm
    obtain ⟨⟨_, d0, d1, d2, d3, d4, d5, d6, d7, d8, d9, d10, d11, d12⟩, zp⟩ := H8.out
    obtain ⟨⟨_, e0, e1, e2, e3, e4, e5, e6, e7, e8, e9, e10, e11, e12⟩, zq⟩ := H9.out
    dsimp only at d0 d1 d2 d3 d4 d5 d6 d7 d8 d9 d10 d11 d12
    obtain ⟨_, c0, c1, c2, c3, c4, c5, c6, c7, c8, c9, c10, c11, c12⟩ := HB.out
    go_region
    clear c0 c1 c2 c3 c4 c5 c6 c7 c8 c9 c10 c11 c12 d0 d1 d2 d3 d4 d5 d6 d7 d8 d9 d10 d11 d12 e0 e1 e2 e3 e4 e5 e6 e7 e8 e9 e10 e11 e12 zp zq
    have H9 := hide (show RB q (⟨t.k, t.d, t.r, t.a, t.q - n, t.m - V, t.td, t.sd, t.p, t.pa, t.ml, t.r0, t.r1⟩ : Tr) (((Y.setCell { block := q, off := 4 } (Value.int IntKind.i64 (t.q - n))).setCell { block := q, off := 5 } (Value.int IntKind.i64 (t.m - V))).drew) from (RB.set5 (t.m - V) (RB.set4 (t.q - n) H9.out)).keep (Below.refl _ _).drew)
    have H8 := hide (show RB p (⟨t.k, t.d, t.r, t.a, n, V, t.td, t.sd, t.p, false, 0, t.r0, t.r1⟩ : Tr) (((Y.setCell { block := q, off := 4 } (Value.int IntKind.i64 (t.q - n))).setCell { block := q, off := 5 } (Value.int IntKind.i64 (t.m - V))).drew) from ((H8.out.other g1).other g1).keep (Below.refl _ _).drew)
    have HB := hide (show TB w.heap.size t (((Y.setCell { block := q, off := 4 } (Value.int IntKind.i64 (t.q - n))).setCell { block := q, off := 5 } (Value.int IntKind.i64 (t.m - V))).drew) from ((HB.out.other g6).other g6).keep (Below.refl _ _).drew)
    have gx : w.heap.size + 1 ≠ q := by omega
    have H4 := hide (show RB (w.heap.size + 1) zT (((Y.setCell { block := q, off := 4 } (Value.int IntKind.i64 (t.q - n))).setCell { block := q, off := 5 } (Value.int IntKind.i64 (t.m - V))).drew) from ((H4.out.other gx).other gx).keep (Below.refl _ _).drew)
    clear gx
    have gx : w.heap.size + 1 + 1 ≠ q := by omega
    have H5 := hide (show RB (w.heap.size + 1 + 1) zT (((Y.setCell { block := q, off := 4 } (Value.int IntKind.i64 (t.q - n))).setCell { block := q, off := 5 } (Value.int IntKind.i64 (t.m - V))).drew) from ((H5.out.other gx).other gx).keep (Below.refl _ _).drew)
    clear gx
    have HR := hide (show Below w.heap.size w (((Y.setCell { block := q, off := 4 } (Value.int IntKind.i64 (t.q - n))).setCell { block := q, off := 5 } (Value.int IntKind.i64 (t.m - V))).drew) from ((HR.out.setCell (by simp; omega) _).setCell (by simp; omega) _).drew)
    generalize ((Y.setCell { block := q, off := 4 } (Value.int IntKind.i64 (t.q - n))).setCell { block := q, off := 5 } (Value.int IntKind.i64 (t.m - V))).drew = Z at *
    obtain ⟨_, c0, c1, c2, c3, c4, c5, c6, c7, c8, c9, c10, c11, c12⟩ := HB.out
    obtain ⟨⟨_, e0, e1, e2, e3, e4, e5, e6, e7, e8, e9, e10, e11, e12⟩, zq⟩ := H9.out
    dsimp only at e0 e1 e2 e3 e4 e5 e6 e7 e8 e9 e10 e11 e12
    go_wp2_with fail
    clear c0 c1 c2 c3 c4 c5 c6 c7 c8 c9 c10 c11 c12 e0 e1 e2 e3 e4 e5 e6 e7 e8 e9 e10 e11 e12 zq
    have H9 := hide (show RB q (⟨t.k, t.d, t.r, t.a, t.q - n, t.m - V, t.td, t.sd, t.p, false, 0, t.r0, t.r1⟩ : Tr) (((Z.setCell { block := q, off := 9 } (Value.bool false)).setCell { block := q, off := 10 } (Value.int IntKind.i64 0))) from RB.set10 0 (RB.set9 false H9.out))
    have H8 := hide (show RB p (⟨t.k, t.d, t.r, t.a, n, V, t.td, t.sd, t.p, false, 0, t.r0, t.r1⟩ : Tr) (((Z.setCell { block := q, off := 9 } (Value.bool false)).setCell { block := q, off := 10 } (Value.int IntKind.i64 0))) from (H8.out.other g1).other g1)
    have gx : w.heap.size + 1 ≠ q := by omega
    have H4 := hide (show RB (w.heap.size + 1) zT (((Z.setCell { block := q, off := 9 } (Value.bool false)).setCell { block := q, off := 10 } (Value.int IntKind.i64 0))) from (H4.out.other gx).other gx)
    clear gx
    have gx : w.heap.size + 1 + 1 ≠ q := by omega
    have H5 := hide (show RB (w.heap.size + 1 + 1) zT (((Z.setCell { block := q, off := 9 } (Value.bool false)).setCell { block := q, off := 10 } (Value.int IntKind.i64 0))) from (H5.out.other gx).other gx)
    clear gx
    have HR := hide (show Below w.heap.size w (((Z.setCell { block := q, off := 9 } (Value.bool false)).setCell { block := q, off := 10 } (Value.int IntKind.i64 0))) from (HR.out.setCell (by simp; omega) _).setCell (by simp; omega) _)
    generalize ((Z.setCell { block := q, off := 9 } (Value.bool false)).setCell { block := q, off := 10 } (Value.int IntKind.i64 0)) = ZZ at *
    clear HB g4 g5 g6 g7 g8 g9
    refine wp_region_inv (I := fun f a wx => ∃ (v59 v60 v6 : Value) (t4 t5 : Tr), a = { tmps := #[Value.agg #[Value.int IntKind.i64 t.k, Value.string t.d, Value.string t.r, Value.string t.a, Value.int IntKind.i64 t.q, Value.int IntKind.i64 t.m, Value.int IntKind.i64 t.td, Value.int IntKind.i64 t.sd, Value.int IntKind.i64 t.p, Value.bool t.pa, Value.int IntKind.i64 t.ml, Value.string t.r0, Value.string t.r1], Value.int IntKind.i64 n, Value.pointer (some { block := w.heap.size, off := 0 }), undef, Value.pointer (some { block := w.heap.size + 1, off := 0 }), Value.pointer (some { block := w.heap.size + 1 + 1, off := 0 }), v6, Value.int IntKind.i64 0, Value.pointer (some { block := p, off := 0 }), Value.pointer (some { block := q, off := 0 }), Value.agg #[Value.int IntKind.i64 t.k, Value.string t.d, Value.string t.r, Value.string t.a, Value.int IntKind.i64 t.q, Value.int IntKind.i64 t.m, Value.int IntKind.i64 t.td, Value.int IntKind.i64 t.sd, Value.int IntKind.i64 t.p, Value.bool t.pa, Value.int IntKind.i64 t.ml, Value.string t.r0, Value.string t.r1], Value.int IntKind.i64 0, Value.int IntKind.i64 0, Value.bool false, undef, undef, undef, Value.agg #[Value.int IntKind.i64 t.k, Value.string t.d, Value.string t.r, Value.string t.a, Value.int IntKind.i64 t.q, Value.int IntKind.i64 t.m, Value.int IntKind.i64 t.td, Value.int IntKind.i64 t.sd, Value.int IntKind.i64 t.p, Value.bool t.pa, Value.int IntKind.i64 t.ml, Value.string t.r0, Value.string t.r1], Value.bool true, Value.bool false, undef, undef, Value.agg #[Value.int IntKind.i64 t.k, Value.string t.d, Value.string t.r, Value.string t.a, Value.int IntKind.i64 t.q, Value.int IntKind.i64 t.m, Value.int IntKind.i64 t.td, Value.int IntKind.i64 t.sd, Value.int IntKind.i64 t.p, Value.bool t.pa, Value.int IntKind.i64 t.ml, Value.string t.r0, Value.string t.r1], Value.int IntKind.i64 n, Value.bool true, Value.bool false, undef, undef, Value.agg #[Value.int IntKind.i64 t.k, Value.string t.d, Value.string t.r, Value.string t.a, Value.int IntKind.i64 t.q, Value.int IntKind.i64 t.m, Value.int IntKind.i64 t.td, Value.int IntKind.i64 t.sd, Value.int IntKind.i64 t.p, Value.bool t.pa, Value.int IntKind.i64 t.ml, Value.string t.r0, Value.string t.r1], Value.agg #[Value.int IntKind.i64 t.k, Value.string t.d, Value.string t.r, Value.string t.a, Value.int IntKind.i64 t.q, Value.int IntKind.i64 t.m, Value.int IntKind.i64 t.td, Value.int IntKind.i64 t.sd, Value.int IntKind.i64 t.p, Value.bool t.pa, Value.int IntKind.i64 t.ml, Value.string t.r0, Value.string t.r1], Value.tuple #[Value.int IntKind.i64 V, Value.int IntKind.i64 0], Value.agg #[Value.int IntKind.i64 t.k, Value.string t.d, Value.string t.r, Value.string t.a, Value.int IntKind.i64 t.q, Value.int IntKind.i64 t.m, Value.int IntKind.i64 t.td, Value.int IntKind.i64 t.sd, Value.int IntKind.i64 t.p, Value.bool t.pa, Value.int IntKind.i64 t.ml, Value.string t.r0, Value.string t.r1], Value.int IntKind.i64 n, Value.tuple #[Value.int IntKind.i64 V, Value.int IntKind.i64 0], Value.int IntKind.i64 V, Value.int IntKind.i64 0, Value.pointer (some { block := p, off := 5 }), Value.int IntKind.i64 n, Value.pointer (some { block := p, off := 4 }), Value.pointer (some { block := p, off := 9 }), Value.pointer (some { block := p, off := 10 }), Value.pointer (some { block := w.heap.size, off := 4 }), Value.int IntKind.i64 t.q, Value.int IntKind.i64 n, Value.int IntKind.i64 (t.q - n), Value.pointer (some { block := w.heap.size, off := 5 }), Value.int IntKind.i64 t.m, Value.pointer (some { block := p, off := 5 }), Value.int IntKind.i64 V, Value.int IntKind.i64 (t.m - V), Value.pointer (some { block := q, off := 4 }), Value.pointer (some { block := q, off := 5 }), Value.pointer (some { block := q, off := 4 }), Value.int IntKind.i64 (t.q - n), Value.pointer (some { block := w.heap.size, off := 10 }), Value.int IntKind.i64 t.ml, Value.bool true, Value.pointer (some { block := q, off := 9 }), Value.pointer (some { block := q, off := 10 }), v59, v60], defers := [] } ∧ Hid (Below w.heap.size w wx) ∧ Hid (RB p (⟨t.k, t.d, t.r, t.a, n, V, t.td, t.sd, t.p, false, 0, t.r0, t.r1⟩ : Tr) wx) ∧ Hid (RB q (⟨t.k, t.d, t.r, t.a, t.q - n, t.m - V, t.td, t.sd, t.p, false, 0, t.r0, t.r1⟩ : Tr) wx) ∧ Hid (RB (w.heap.size + 1) t4 wx) ∧ Hid (RB (w.heap.size + 1 + 1) t5 wx) ∧ Hid (f 0 = true → v59 = Value.agg #[Value.int IntKind.i64 t.k, Value.string t.d, Value.string t.r, Value.string t.a, Value.int IntKind.i64 n, Value.int IntKind.i64 V, Value.int IntKind.i64 t.td, Value.int IntKind.i64 t.sd, Value.int IntKind.i64 t.p, Value.bool false, Value.int IntKind.i64 0, Value.string t.r0, Value.string t.r1]) ∧ Hid (f 1 = true → v60 = Value.agg #[Value.int IntKind.i64 t.k, Value.string t.d, Value.string t.r, Value.string t.a, Value.int IntKind.i64 (t.q - n), Value.int IntKind.i64 (t.m - V), Value.int IntKind.i64 t.td, Value.int IntKind.i64 t.sd, Value.int IntKind.i64 t.p, Value.bool false, Value.int IntKind.i64 0, Value.string t.r0, Value.string t.r1]) ∧ Hid (f 2 = true → t4 = (⟨t.k, t.d, t.r, t.a, n, V, t.td, t.sd, t.p, false, 0, t.r0, t.r1⟩ : Tr)) ∧ Hid (f 3 = true → t5 = (⟨t.k, t.d, t.r, t.a, t.q - n, t.m - V, t.td, t.sd, t.p, false, 0, t.r0, t.r1⟩ : Tr)) ∧ Hid (v6 = Value.int IntKind.i64 0)) (by kernel_rfl) (by kernel_rfl) ?_ ?_ ?_
    · exact ⟨_, _, _, zT, zT, rfl, hide HR.out.drew, hide (H8.out.keep (Below.refl _ _).drew), hide (H9.out.keep (Below.refl _ _).drew), hide (H4.out.keep (Below.refl _ _).drew), hide (H5.out.keep (Below.refl _ _).drew), hide (fun h => Bool.noConfusion h), hide (fun h => Bool.noConfusion h), hide (fun h => Bool.noConfusion h), hide (fun h => Bool.noConfusion h), hide rfl⟩
    · intro i hi f a wx hfi hB hI
      clear HR H8 H9 H4 H5
      obtain ⟨v59, v60, v6, t4, t5, rfl, HR, H8, H9, H4, H5, F0, F1, T4, T5, V6⟩ := hI
      have hi6 : i < 5 := hi
      have hi3 : i = 0 ∨ i = 1 ∨ i = 2 ∨ i = 3 ∨ i = 4 := by omega
      clear hi hi6
      rcases hi3 with rfl | rfl | rfl | rfl | rfl
      · skip
        refine wpOp_list' (o := _) rfl (fun K hK => ?_)
        obtain ⟨⟨_, c0, c1, c2, c3, c4, c5, c6, c7, c8, c9, c10, c11, c12⟩, _⟩ := H8.out
        dsimp only at c0 c1 c2 c3 c4 c5 c6 c7 c8 c9 c10 c11 c12
        go_wp2_with fail
        exact hK.out _ _ ⟨_, _, _, t4, t5, rfl, HR, H8, H9, H4, H5, hide (fun _ => rfl), F1, T4, T5, V6⟩
      · skip
        refine wpOp_list' (o := _) rfl (fun K hK => ?_)
        obtain ⟨⟨_, c0, c1, c2, c3, c4, c5, c6, c7, c8, c9, c10, c11, c12⟩, _⟩ := H9.out
        dsimp only at c0 c1 c2 c3 c4 c5 c6 c7 c8 c9 c10 c11 c12
        go_wp2_with fail
        exact hK.out _ _ ⟨_, _, _, t4, t5, rfl, HR, H8, H9, H4, H5, F0, hide (fun _ => rfl), T4, T5, V6⟩
      · skip
        have d := F0.out (hB.dep 0 (by kernel_rfl))
        subst d
        obtain ⟨⟨_, c0, c1, c2, c3, c4, c5, c6, c7, c8, c9, c10, c11, c12⟩, zf⟩ := H4.out
        refine wpOp_list' (o := _) rfl (fun K hK => ?_)
        go_wp2_with fail
        have HR := hide (below_put (p := w.heap.size + 1) (⟨t.k, t.d, t.r, t.a, n, V, t.td, t.sd, t.p, false, 0, t.r0, t.r1⟩ : Tr) HR.out (by omega))
        have H8 := hide (H8.out.puto (p := w.heap.size + 1) (⟨t.k, t.d, t.r, t.a, n, V, t.td, t.sd, t.p, false, 0, t.r0, t.r1⟩ : Tr) (by omega))
        have H9 := hide (H9.out.puto (p := w.heap.size + 1) (⟨t.k, t.d, t.r, t.a, n, V, t.td, t.sd, t.p, false, 0, t.r0, t.r1⟩ : Tr) (by omega))
        have H5 := hide (H5.out.puto (p := w.heap.size + 1) (⟨t.k, t.d, t.r, t.a, n, V, t.td, t.sd, t.p, false, 0, t.r0, t.r1⟩ : Tr) (by omega))
        exact hK.out _ _ ⟨_, _, _, (⟨t.k, t.d, t.r, t.a, n, V, t.td, t.sd, t.p, false, 0, t.r0, t.r1⟩ : Tr), t5, rfl, HR, H8, H9, hide (H4.out.put (⟨t.k, t.d, t.r, t.a, n, V, t.td, t.sd, t.p, false, 0, t.r0, t.r1⟩ : Tr)), H5, hide (fun _ => rfl), F1, hide (fun _ => rfl), T5, V6⟩
      · skip
        have d := F1.out (hB.dep 1 (by kernel_rfl))
        subst d
        obtain ⟨⟨_, c0, c1, c2, c3, c4, c5, c6, c7, c8, c9, c10, c11, c12⟩, zf⟩ := H5.out
        refine wpOp_list' (o := _) rfl (fun K hK => ?_)
        go_wp2_with fail
        have HR := hide (below_put (p := w.heap.size + 1 + 1) (⟨t.k, t.d, t.r, t.a, t.q - n, t.m - V, t.td, t.sd, t.p, false, 0, t.r0, t.r1⟩ : Tr) HR.out (by omega))
        have H8 := hide (H8.out.puto (p := w.heap.size + 1 + 1) (⟨t.k, t.d, t.r, t.a, t.q - n, t.m - V, t.td, t.sd, t.p, false, 0, t.r0, t.r1⟩ : Tr) (by omega))
        have H9 := hide (H9.out.puto (p := w.heap.size + 1 + 1) (⟨t.k, t.d, t.r, t.a, t.q - n, t.m - V, t.td, t.sd, t.p, false, 0, t.r0, t.r1⟩ : Tr) (by omega))
        have H4 := hide (H4.out.puto (p := w.heap.size + 1 + 1) (⟨t.k, t.d, t.r, t.a, t.q - n, t.m - V, t.td, t.sd, t.p, false, 0, t.r0, t.r1⟩ : Tr) (by omega))
        exact hK.out _ _ ⟨_, _, _, t4, (⟨t.k, t.d, t.r, t.a, t.q - n, t.m - V, t.td, t.sd, t.p, false, 0, t.r0, t.r1⟩ : Tr), rfl, HR, H8, H9, H4, hide (H5.out.put (⟨t.k, t.d, t.r, t.a, t.q - n, t.m - V, t.td, t.sd, t.p, false, 0, t.r0, t.r1⟩ : Tr)), F0, hide (fun _ => rfl), T4, hide (fun _ => rfl), V6⟩
      · skip
        refine wpOp_list' (o := _) rfl (fun K hK => ?_)
        go_wp2_with fail
        exact hK.out _ _ ⟨_, _, _, t4, t5, rfl, HR, H8, H9, H4, H5, F0, F1, T4, T5, hide rfl⟩
    · intro f a wx hall hI
      clear HR H8 H9 H4 H5
      obtain ⟨v59, v60, v6, t4, t5, rfl, HR, H8, H9, H4, H5, F0, F1, T4, T5, V6⟩ := hI
      have e6 := V6.out
      subst e6
      have e4 := T4.out (hall 2 (by decide))
      subst e4
      have e5 := T5.out (hall 3 (by decide))
      subst e5
      have e0 := F0.out (hall 0 (by decide))
      subst e0
      have e1 := F1.out (hall 1 (by decide))
      subst e1
      clear F0 F1 T4 T5 V6 H8 H9 hall
      obtain ⟨⟨_, f0, f1, f2, f3, f4, f5, f6, f7, f8, f9, f10, f11, f12⟩, _⟩ := H4.out
      obtain ⟨⟨_, k0, k1, k2, k3, k4, k5, k6, k7, k8, k9, k10, k11, k12⟩, _⟩ := H5.out
      dsimp only at f0 f1 f2 f3 f4 f5 f6 f7 f8 f9 f10 f11 f12 k0 k1 k2 k3 k4 k5 k6 k7 k8 k9 k10 k11 k12
      go_wp2_with fail
      exact bodyPost_ret (v := .tuple #[Value.agg #[Value.int IntKind.i64 t.k, Value.string t.d, Value.string t.r, Value.string t.a, Value.int IntKind.i64 n, Value.int IntKind.i64 V, Value.int IntKind.i64 t.td, Value.int IntKind.i64 t.sd, Value.int IntKind.i64 t.p, Value.bool false, Value.int IntKind.i64 0, Value.string t.r0, Value.string t.r1], Value.agg #[Value.int IntKind.i64 t.k, Value.string t.d, Value.string t.r, Value.string t.a, Value.int IntKind.i64 (t.q - n), Value.int IntKind.i64 (t.m - V), Value.int IntKind.i64 t.td, Value.int IntKind.i64 t.sd, Value.int IntKind.i64 t.p, Value.bool false, Value.int IntKind.i64 0, Value.string t.r0, Value.string t.r1], .int .i64 0]) (by simp [results, Tryd.results15, go_sem, f0, f1, f2, f3, f4, f5, f6, f7, f8, f9, f10, f11, f12, k0, k1, k2, k3, k4, k5, k6, k7, k8, k9, k10, k11, k12]) rfl ⟨rfl, HR.out⟩
end Go.Proofs.YtipgpmjhoaenlaaDoor
