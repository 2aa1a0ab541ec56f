/-
  RepoRoll: the walk.
-/
import Derived.Test.YtjjaemobgfconaaDoorEG
import Derived.Test.YtjjaemobgfconaaDoorEI
import Derived.Test.YtjjaemobgfconaaDoorEJ
import Derived.Test.YtjjaemobgfconaaDoorEC
import Derived.Test.YtjjaemobgfconaaDoorRepoInterestWalk
import Derived.Test.YtjjaemobgfconaaDoorInv
import Derived.WalkKit
import Derived.Deep.QuietTactic
import Derived.BigQuiet
import Derived.Laws.EntriesVeiled
import Derived.Lib.MinMax
import Derived.Deep.Light
import Derived.Laws.Rows
namespace Go.Proofs.YtjjaemobgfconaaDoor
open Go.RowKit
set_option linter.unusedVariables false
set_option linter.unusedSimpArgs false
set_option linter.unnecessarySimpa false

/-- A cleared row of an agreement, made since. -/
def ZB (B : Nat) (w : World) (v : Value) : Prop := ∃ b, v = .pointer (some ⟨b, 0, none⟩) ∧ B ≤ b ∧ w.heap[b]? = some (.cells #[.string ⟨#[]⟩, .string ⟨#[]⟩, .string ⟨#[]⟩, .string ⟨#[]⟩, .int .i64 0, .int .i64 0, .int .i64 0, .int .i64 0, .int .i64 0, .int .i64 0] 28 (0, 0))
theorem ZB.keep {B : Nat} {w y : World} {v : Value} (h : ZB B w v) (hb : Below w.heap.size w y) : ZB B y v := by
  obtain ⟨b, e, h1, h2⟩ := h
  exact ⟨b, e, h1, (hb.block b (Array.getElem?_eq_some_iff.1 h2).1).trans h2⟩
/-- An agreement's row, made since. -/
def SB (B : Nat) (t : Ag) (w : World) (v : Value) : Prop := ∃ b, v = .pointer (some ⟨b, 0, none⟩) ∧ B ≤ b ∧ RB b t w
theorem SB.keep {B : Nat} {t : Ag} {w y : World} {v : Value} (h : SB B t w v) (hb : Below w.heap.size w y) : SB B t y v := by
  obtain ⟨b, e, h1, h2⟩ := h
  exact ⟨b, e, h1, h2.keep hb⟩
theorem blk1 (w : World) (o : Obj) : Below w.heap.size w (w.alloc o) := (Below.refl _ _).alloc (Nat.le_refl _) o
set_option maxHeartbeats 16000000 in
set_option maxRecDepth 20000 in
theorem repoRoll_walk (t u : Ag) (s : ByteArray) (cl2 n2 d2 : Int) (w : World) (h : t.Ok) (hu : u.Ok) (hs : s.size ≤ 9223372036854775807) (w3 : (Lit.int .i64 cl2).wf = true) (w4 : (-9223372036854775808 ≤ n2 ∧ n2 ≤ 9223372036854775807) ∧ (-9223372036854775808 ≤ d2 ∧ d2 ≤ 9223372036854775807)) (hL : laidMetH Tryd.prog laid w) :
    Calls Tryd.prog 5 #[.agg #[.string t.rf, .string t.se, .string t.bu, .string t.sn, .int .i64 t.q, .int .i64 t.c, .int .i64 t.n, .int .i64 t.d, .int .i64 t.op, .int .i64 t.cl], .agg #[.string u.rf, .string u.se, .string u.bu, .string u.sn, .int .i64 u.q, .int .i64 u.c, .int .i64 u.n, .int .i64 u.d, .int .i64 u.op, .int .i64 u.cl], .string s, .int .i64 cl2, .agg #[.int .i64 n2, .int .i64 d2]] w fun e w' => e = .returned (.bool true) ∧ Below w.heap.size w w' := by
  have S := hide (shp_of hL)
  have CV := fun w => hide (conv_any t w)
  have CU := fun w => hide (conv_any u w)
  have OF := fun w => hide (of_any n2 d2 w)
  have RO := fun w S => hide (roll_any t s cl2 n2 d2 w S h hs (wfi w3) w4.1 w4.2)
  have RR := fun w => hide (rroll_any t s cl2 n2 d2 w h hs (wfi w3) w4.1 w4.2)
  have NE := fun w S => hide (net_any t u w S h hu)
  have RN := fun w => hide (rnet_any t u w h hu)
  have KN := fun w S => hide (known_any w S)
  have BK := fun w => hide (back_any (roA t s cl2 n2 d2) w)
  clear h hu hs w3 w4 hL
  generalize roA t s cl2 n2 d2 = g at *
  generalize roE t s cl2 n2 d2 = E at *
  generalize neE t u = F at *
  generalize neV t u = V at *
  have hs1 : (w.alloc (Obj.cells #[.string t.rf, .string t.se, .string t.bu, .string t.sn, .int .i64 t.q, .int .i64 t.c, .int .i64 t.n, .int .i64 t.d, .int .i64 t.op, .int .i64 t.cl] 25)).heap.size = w.heap.size + 1 := Array.size_push _
  have hs2 : ((w.alloc (Obj.cells #[.string t.rf, .string t.se, .string t.bu, .string t.sn, .int .i64 t.q, .int .i64 t.c, .int .i64 t.n, .int .i64 t.d, .int .i64 t.op, .int .i64 t.cl] 25)).alloc (Obj.cells #[.string u.rf, .string u.se, .string u.bu, .string u.sn, .int .i64 u.q, .int .i64 u.c, .int .i64 u.n, .int .i64 u.d, .int .i64 u.op, .int .i64 u.cl] 25)).heap.size = w.heap.size + 1 + 1 := (Array.size_push _).trans (by rw [hs1])
  have A2 := one_alloc (w.alloc (Obj.cells #[.string t.rf, .string t.se, .string t.bu, .string t.sn, .int .i64 t.q, .int .i64 t.c, .int .i64 t.n, .int .i64 t.d, .int .i64 t.op, .int .i64 t.cl] 25)) (Obj.cells #[.string u.rf, .string u.se, .string u.bu, .string u.sn, .int .i64 u.q, .int .i64 u.c, .int .i64 u.n, .int .i64 u.d, .int .i64 u.op, .int .i64 u.cl] 25)
  have A3 := one_alloc ((w.alloc (Obj.cells #[.string t.rf, .string t.se, .string t.bu, .string t.sn, .int .i64 t.q, .int .i64 t.c, .int .i64 t.n, .int .i64 t.d, .int .i64 t.op, .int .i64 t.cl] 25)).alloc (Obj.cells #[.string u.rf, .string u.se, .string u.bu, .string u.sn, .int .i64 u.q, .int .i64 u.c, .int .i64 u.n, .int .i64 u.d, .int .i64 u.op, .int .i64 u.cl] 25)) (Obj.cells #[.int .i64 n2, .int .i64 d2] 23)
  have H2 := two_allocs w (Obj.cells #[.string t.rf, .string t.se, .string t.bu, .string t.sn, .int .i64 t.q, .int .i64 t.c, .int .i64 t.n, .int .i64 t.d, .int .i64 t.op, .int .i64 t.cl] 25) (Obj.cells #[.string u.rf, .string u.se, .string u.bu, .string u.sn, .int .i64 u.q, .int .i64 u.c, .int .i64 u.n, .int .i64 u.d, .int .i64 u.op, .int .i64 u.cl] 25)
  have HR0 := hide (H2.trans (A3.mono H2.size))
  have HB := hide (((RB.new t w 25).keep A2).keep A3)
  have hC := RB.new u (w.alloc (Obj.cells #[.string t.rf, .string t.se, .string t.bu, .string t.sn, .int .i64 t.q, .int .i64 t.c, .int .i64 t.n, .int .i64 t.d, .int .i64 t.op, .int .i64 t.cl] 25)) 25
  rw [hs1] at hC
  have HC := hide (hC.keep A3)
  have hN := Array.getElem?_push_size (xs := ((w.alloc (Obj.cells #[.string t.rf, .string t.se, .string t.bu, .string t.sn, .int .i64 t.q, .int .i64 t.c, .int .i64 t.n, .int .i64 t.d, .int .i64 t.op, .int .i64 t.cl] 25)).alloc (Obj.cells #[.string u.rf, .string u.se, .string u.bu, .string u.sn, .int .i64 u.q, .int .i64 u.c, .int .i64 u.n, .int .i64 u.d, .int .i64 u.op, .int .i64 u.cl] 25)).heap) (x := Obj.cells #[.int .i64 n2, .int .i64 d2] 23)
  rw [hs2] at hN
  have HN : Hid ((((w.alloc (Obj.cells #[.string t.rf, .string t.se, .string t.bu, .string t.sn, .int .i64 t.q, .int .i64 t.c, .int .i64 t.n, .int .i64 t.d, .int .i64 t.op, .int .i64 t.cl] 25)).alloc (Obj.cells #[.string u.rf, .string u.se, .string u.bu, .string u.sn, .int .i64 u.q, .int .i64 u.c, .int .i64 u.n, .int .i64 u.d, .int .i64 u.op, .int .i64 u.cl] 25)).alloc (Obj.cells #[.int .i64 n2, .int .i64 d2] 23)).heap[w.heap.size + 1 + 1]? = some (.cells #[.int .i64 n2, .int .i64 d2] 23 (0, 0))) := hide hN
  clear hC hN A2 A3 H2 hs1 hs2
  go_enter Tryd.func5, Tryd.ntmps5
  obtain ⟨_, c0, c1, c2, c3, c4, c5, c6, c7, c8, c9⟩ := HB.out
  obtain ⟨_, e0, e1, e2, e3, e4, e5, e6, e7, e8, e9⟩ := HC.out
  go_wp2_with fail
  generalize ((w.alloc (Obj.cells #[.string t.rf, .string t.se, .string t.bu, .string t.sn, .int .i64 t.q, .int .i64 t.c, .int .i64 t.n, .int .i64 t.d, .int .i64 t.op, .int .i64 t.cl] 25)).alloc (Obj.cells #[.string u.rf, .string u.se, .string u.bu, .string u.sn, .int .i64 u.q, .int .i64 u.c, .int .i64 u.n, .int .i64 u.d, .int .i64 u.op, .int .i64 u.cl] 25)).alloc (Obj.cells #[.int .i64 n2, .int .i64 d2] 23) = X at *
  clear c0 c1 c2 c3 c4 c5 c6 c7 c8 c9 e0 e1 e2 e3 e4 e5 e6 e7 e8 e9
  refine wp_region_inv (I := fun f q wx => ∃ v11 v12 v19 v20 v21 v22 v23 v24 v25 v26 v27 v28 : Value, q = { tmps := #[Value.agg #[.string t.rf, .string t.se, .string t.bu, .string t.sn, .int .i64 t.q, .int .i64 t.c, .int .i64 t.n, .int .i64 t.d, .int .i64 t.op, .int .i64 t.cl], Value.agg #[.string u.rf, .string u.se, .string u.bu, .string u.sn, .int .i64 u.q, .int .i64 u.c, .int .i64 u.n, .int .i64 u.d, .int .i64 u.op, .int .i64 u.cl], Value.string s, Value.int .i64 cl2, Value.agg #[.int .i64 n2, .int .i64 d2], Value.pointer (some ⟨w.heap.size, 0, none⟩), Value.pointer (some ⟨w.heap.size + 1, 0, none⟩), undef, undef, Value.pointer (some ⟨w.heap.size + 1 + 1, 0, none⟩), Value.bool false, v11, v12, undef, undef, undef, undef, undef, undef, v19, v20, v21, v22, v23, v24, v25, v26, v27, v28, undef, undef, undef, undef, undef, undef, undef, undef, undef, undef, undef, undef, undef, undef, undef, undef, undef, undef, undef, undef, undef, undef, undef, undef, undef, undef, undef, undef, undef, undef, undef, undef, undef, undef, undef, undef, undef, undef, undef, undef, undef, undef, undef, undef], defers := [] } ∧ Hid (Below X.heap.size X wx) ∧ Hid (f 0 = true → v20 = .agg #[.string t.rf, .string t.se, .string t.bu, .string t.sn, .int .i64 t.q, .int .i64 t.c, .int .i64 t.n, .int .i64 t.d, .int .i64 t.op, .int .i64 t.cl]) ∧ Hid (f 1 = true → v21 = .agg #[.string t.rf, .string t.se, .string t.bu, .string t.sn, .int .i64 t.q, .int .i64 t.c, .int .i64 t.n, .int .i64 t.d, .int .i64 t.op, .int .i64 t.cl]) ∧ Hid (f 2 = true → v22 = .string s) ∧ Hid (f 3 = true → v23 = .int .i64 cl2) ∧ Hid (f 4 = true → v24 = .agg #[.int .i64 n2, .int .i64 d2]) ∧ Hid (f 5 = true → v25 = .agg #[.int .i64 n2, .int .i64 d2]) ∧ Hid (f 6 = true → v26 = .tuple #[.agg #[.string g.rf, .string g.se, .string g.bu, .string g.sn, .int .i64 g.q, .int .i64 g.c, .int .i64 g.n, .int .i64 g.d, .int .i64 g.op, .int .i64 g.cl], .int .i64 E]) ∧ Hid (f 7 = true → v19 = .tuple #[.agg #[.string g.rf, .string g.se, .string g.bu, .string g.sn, .int .i64 g.q, .int .i64 g.c, .int .i64 g.n, .int .i64 g.d, .int .i64 g.op, .int .i64 g.cl], .int .i64 E]) ∧ Hid (f 8 = true → v27 = .agg #[.string g.rf, .string g.se, .string g.bu, .string g.sn, .int .i64 g.q, .int .i64 g.c, .int .i64 g.n, .int .i64 g.d, .int .i64 g.op, .int .i64 g.cl]) ∧ Hid (f 9 = true → v28 = .int .i64 E) ∧ Hid (f 10 = true → f 11 = false → ZB X.heap.size wx v11) ∧ Hid (f 11 = true → f 10 = true ∧ (SB X.heap.size g wx v11)) ∧ Hid (f 12 = true → v12 = .int .i64 E)) (by kernel_rfl) (by kernel_rfl) ?_ ?_ ?_
  · exact ⟨_, _, _, _, _, _, _, _, _, _, _, _, rfl, hide ((Below.refl _ _).drew), hide (fun h => Bool.noConfusion h), hide (fun h => Bool.noConfusion h), hide (fun h => Bool.noConfusion h), hide (fun h => Bool.noConfusion h), hide (fun h => Bool.noConfusion h), hide (fun h => Bool.noConfusion h), hide (fun h => Bool.noConfusion h), hide (fun h => Bool.noConfusion h), hide (fun h => Bool.noConfusion h), hide (fun h => Bool.noConfusion h), hide (fun h => Bool.noConfusion h), hide (fun h => Bool.noConfusion h), hide (fun h => Bool.noConfusion h)⟩
  · intro i hi f q wx hfi hB hI
    obtain ⟨v11, v12, v19, v20, v21, v22, v23, v24, v25, v26, v27, v28, rfl, HR, F0, F1, F2, F3, F4, F5, F6, F7, F8, F9, F10, F11, F12⟩ := hI
    have hin : i < 13 := hi
    have hic : i = 0 ∨ i = 1 ∨ i = 2 ∨ i = 3 ∨ i = 4 ∨ i = 5 ∨ i = 6 ∨ i = 7 ∨ i = 8 ∨ i = 9 ∨ i = 10 ∨ i = 11 ∨ i = 12 := by omega
    clear hi hin
    rcases hic with rfl | rfl | rfl | rfl | rfl | rfl | rfl | rfl | rfl | rfl | rfl | rfl | rfl
    · skip
      refine wpOp_list' (o := _) rfl (fun K hK => ?_)
      obtain ⟨_, c0, c1, c2, c3, c4, c5, c6, c7, c8, c9⟩ := HB.out.keep HR.out
      go_wp2_with fail
      exact hK.out _ _ ⟨_, _, _, _, _, _, _, _, _, _, _, _, rfl, HR, hide (fun _ => rfl), F1, F2, F3, F4, F5, F6, F7, F8, F9, F10, F11, F12⟩
    · skip
      have d0 := F0.out (hB.dep 0 (by kernel_rfl))
      rw [d0]
      clear d0
      refine wpOp_list' (o := _) rfl (fun K hK => ?_)
      go_wp2_with fail
      refine ((CV _).out).mono ?_
      rintro e wy ⟨rfl, hb⟩
      go_wp2_with fail
      have hbl := hb
      have HR := hide (HR.out.trans (hbl.mono HR.out.size))
      exact hK.out _ _ ⟨_, _, _, _, _, _, _, _, _, _, _, _, rfl, HR, hide (fun _ => rfl), hide (fun _ => rfl), F2, F3, F4, F5, F6, F7, F8, F9, hide (fun h h2 => (F10.out h h2).keep hbl), hide (fun h => ⟨(F11.out h).1, (F11.out h).2.keep hbl⟩), F12⟩
    · skip
      refine wpOp_list' (o := _) rfl (fun K hK => ?_)
      go_wp2_with fail
      exact hK.out _ _ ⟨_, _, _, _, _, _, _, _, _, _, _, _, rfl, HR, F0, F1, hide (fun _ => rfl), F3, F4, F5, F6, F7, F8, F9, F10, F11, F12⟩
    · skip
      refine wpOp_list' (o := _) rfl (fun K hK => ?_)
      go_wp2_with fail
      exact hK.out _ _ ⟨_, _, _, _, _, _, _, _, _, _, _, _, rfl, HR, F0, F1, F2, hide (fun _ => rfl), F4, F5, F6, F7, F8, F9, F10, F11, F12⟩
    · skip
      refine wpOp_list' (o := _) rfl (fun K hK => ?_)
      have r0 := (row_cell HN.out HR.out 0).1
      have r1 := (row_cell HN.out HR.out 1).1
      simp only [List.getElem?_toArray, List.getElem?_cons_zero, List.getElem?_cons_succ] at r0 r1
      go_wp2_with fail
      exact hK.out _ _ ⟨_, _, _, _, _, _, _, _, _, _, _, _, rfl, HR, F0, F1, F2, F3, hide (fun _ => rfl), F5, F6, F7, F8, F9, F10, F11, F12⟩
    · skip
      have d4 := F4.out (hB.dep 4 (by kernel_rfl))
      rw [d4]
      clear d4
      refine wpOp_list' (o := _) rfl (fun K hK => ?_)
      go_wp2_with fail
      refine ((OF _).out).mono ?_
      rintro e wy ⟨rfl, hb⟩
      go_wp2_with fail
      have hbl := hb
      have HR := hide (HR.out.trans (hbl.mono HR.out.size))
      exact hK.out _ _ ⟨_, _, _, _, _, _, _, _, _, _, _, _, rfl, HR, F0, F1, F2, F3, hide (fun _ => rfl), hide (fun _ => rfl), F6, F7, F8, F9, hide (fun h h2 => (F10.out h h2).keep hbl), hide (fun h => ⟨(F11.out h).1, (F11.out h).2.keep hbl⟩), F12⟩
    · skip
      have d1 := F1.out (hB.dep 1 (by kernel_rfl))
      rw [d1]
      clear d1
      have d2 := F2.out (hB.dep 2 (by kernel_rfl))
      rw [d2]
      clear d2
      have d3 := F3.out (hB.dep 3 (by kernel_rfl))
      rw [d3]
      clear d3
      have d5 := F5.out (hB.dep 5 (by kernel_rfl))
      rw [d5]
      clear d5
      refine wpOp_list' (o := _) rfl (fun K hK => ?_)
      go_wp2_with fail
      refine ((RO _ (S.out.keep (HR0.out.trans (HR.out.mono HR0.out.size)))).out).mono ?_
      rintro e wy ⟨rfl, hb⟩
      go_wp2_with fail
      have hbl := hb
      have HR := hide (HR.out.trans (hbl.mono HR.out.size))
      exact hK.out _ _ ⟨_, _, _, _, _, _, _, _, _, _, _, _, rfl, HR, F0, hide (fun _ => rfl), hide (fun _ => rfl), hide (fun _ => rfl), F4, hide (fun _ => rfl), hide (fun _ => rfl), F7, F8, F9, hide (fun h h2 => (F10.out h h2).keep hbl), hide (fun h => ⟨(F11.out h).1, (F11.out h).2.keep hbl⟩), F12⟩
    · skip
      have d6 := F6.out (hB.dep 6 (by kernel_rfl))
      rw [d6]
      clear d6
      refine wpOp_list' (o := _) rfl (fun K hK => ?_)
      go_wp2_with fail
      exact hK.out _ _ ⟨_, _, _, _, _, _, _, _, _, _, _, _, rfl, HR, F0, F1, F2, F3, F4, F5, hide (fun _ => rfl), hide (fun _ => rfl), F8, F9, F10, F11, F12⟩
    · skip
      have d7 := F7.out (hB.dep 7 (by kernel_rfl))
      rw [d7]
      clear d7
      refine wpOp_list' (o := _) rfl (fun K hK => ?_)
      go_wp2_with fail
      exact hK.out _ _ ⟨_, _, _, _, _, _, _, _, _, _, _, _, rfl, HR, F0, F1, F2, F3, F4, F5, F6, hide (fun _ => rfl), hide (fun _ => rfl), F9, F10, F11, F12⟩
    · skip
      have d7 := F7.out (hB.dep 7 (by kernel_rfl))
      rw [d7]
      clear d7
      refine wpOp_list' (o := _) rfl (fun K hK => ?_)
      go_wp2_with fail
      exact hK.out _ _ ⟨_, _, _, _, _, _, _, _, _, _, _, _, rfl, HR, F0, F1, F2, F3, F4, F5, F6, hide (fun _ => rfl), F8, hide (fun _ => rfl), F10, F11, F12⟩
    · skip
      refine wpOp_list' (o := _) rfl (fun K hK => ?_)
      have HR0x := HR.out.size
      go_wp2_with fail
      have hbl := blk1 wx (Obj.cells #[.string ⟨#[]⟩, .string ⟨#[]⟩, .string ⟨#[]⟩, .string ⟨#[]⟩, .int .i64 0, .int .i64 0, .int .i64 0, .int .i64 0, .int .i64 0, .int .i64 0] 28)
      have HR := hide (HR.out.trans (hbl.mono HR.out.size))
      exact hK.out _ _ ⟨_, _, _, _, _, _, _, _, _, _, _, _, rfl, HR, F0, F1, F2, F3, F4, F5, F6, F7, F8, F9, hide (fun _ => fun _ => ⟨wx.heap.size, rfl, HR0x, Array.getElem?_push_size⟩), hide (fun h => absurd (F11.out h).1 (by rw [hfi]; decide)), F12⟩
    · skip
      have d8 := F8.out (hB.dep 8 (by kernel_rfl))
      rw [d8]
      clear d8
      have d10 := F10.out (hB.dep 10 (by kernel_rfl))
      refine wpOp_list' (o := _) rfl (fun K hK => ?_)
      obtain ⟨b, rfl, hb1, hrow⟩ := d10 hfi
      have z0 : wx.cell? ⟨b, 0, none⟩ = some (.string ⟨#[]⟩) := (row_cell hrow (Below.refl _ _) 0).1
      have z1 : wx.cell? ⟨b, 1, none⟩ = some (.string ⟨#[]⟩) := (row_cell hrow (Below.refl _ _) 1).1
      have z2 : wx.cell? ⟨b, 2, none⟩ = some (.string ⟨#[]⟩) := (row_cell hrow (Below.refl _ _) 2).1
      have z3 : wx.cell? ⟨b, 3, none⟩ = some (.string ⟨#[]⟩) := (row_cell hrow (Below.refl _ _) 3).1
      have z4 : wx.cell? ⟨b, 4, none⟩ = some (.int .i64 0) := (row_cell hrow (Below.refl _ _) 4).1
      have z5 : wx.cell? ⟨b, 5, none⟩ = some (.int .i64 0) := (row_cell hrow (Below.refl _ _) 5).1
      have z6 : wx.cell? ⟨b, 6, none⟩ = some (.int .i64 0) := (row_cell hrow (Below.refl _ _) 6).1
      have z7 : wx.cell? ⟨b, 7, none⟩ = some (.int .i64 0) := (row_cell hrow (Below.refl _ _) 7).1
      have z8 : wx.cell? ⟨b, 8, none⟩ = some (.int .i64 0) := (row_cell hrow (Below.refl _ _) 8).1
      have z9 : wx.cell? ⟨b, 9, none⟩ = some (.int .i64 0) := (row_cell hrow (Below.refl _ _) 9).1
      have zf : ∀ j, wx.frozen? ⟨b, j, none⟩ = false := fun j => (row_cell hrow (Below.refl _ _) j).2
      have LN : b < ((((((((((wx.setCell ⟨b, 0, none⟩ (.string g.rf)).setCell ⟨b, 1, none⟩ (.string g.se)).setCell ⟨b, 2, none⟩ (.string g.bu)).setCell ⟨b, 3, none⟩ (.string g.sn)).setCell ⟨b, 4, none⟩ (.int .i64 g.q)).setCell ⟨b, 5, none⟩ (.int .i64 g.c)).setCell ⟨b, 6, none⟩ (.int .i64 g.n)).setCell ⟨b, 7, none⟩ (.int .i64 g.d)).setCell ⟨b, 8, none⟩ (.int .i64 g.op)).setCell ⟨b, 9, none⟩ (.int .i64 g.cl)).heap.size := by simpa using (Array.getElem?_eq_some_iff.1 hrow).1
      have HS := hide (show RB b g ((((((((((wx.setCell ⟨b, 0, none⟩ (.string g.rf)).setCell ⟨b, 1, none⟩ (.string g.se)).setCell ⟨b, 2, none⟩ (.string g.bu)).setCell ⟨b, 3, none⟩ (.string g.sn)).setCell ⟨b, 4, none⟩ (.int .i64 g.q)).setCell ⟨b, 5, none⟩ (.int .i64 g.c)).setCell ⟨b, 6, none⟩ (.int .i64 g.n)).setCell ⟨b, 7, none⟩ (.int .i64 g.d)).setCell ⟨b, 8, none⟩ (.int .i64 g.op)).setCell ⟨b, 9, none⟩ (.int .i64 g.cl)) from ⟨LN, by simp [go_sem, z0, z1, z2, z3, z4, z5, z6, z7, z8, z9, zf], by simp [go_sem, z0, z1, z2, z3, z4, z5, z6, z7, z8, z9, zf], by simp [go_sem, z0, z1, z2, z3, z4, z5, z6, z7, z8, z9, zf], by simp [go_sem, z0, z1, z2, z3, z4, z5, z6, z7, z8, z9, zf], by simp [go_sem, z0, z1, z2, z3, z4, z5, z6, z7, z8, z9, zf], by simp [go_sem, z0, z1, z2, z3, z4, z5, z6, z7, z8, z9, zf], by simp [go_sem, z0, z1, z2, z3, z4, z5, z6, z7, z8, z9, zf], by simp [go_sem, z0, z1, z2, z3, z4, z5, z6, z7, z8, z9, zf], by simp [go_sem, z0, z1, z2, z3, z4, z5, z6, z7, z8, z9, zf], by simp [go_sem, z0, z1, z2, z3, z4, z5, z6, z7, z8, z9, zf]⟩)
      go_wp2_with fail
      have HR := hide (show Below X.heap.size X ((((((((((wx.setCell ⟨b, 0, none⟩ (.string g.rf)).setCell ⟨b, 1, none⟩ (.string g.se)).setCell ⟨b, 2, none⟩ (.string g.bu)).setCell ⟨b, 3, none⟩ (.string g.sn)).setCell ⟨b, 4, none⟩ (.int .i64 g.q)).setCell ⟨b, 5, none⟩ (.int .i64 g.c)).setCell ⟨b, 6, none⟩ (.int .i64 g.n)).setCell ⟨b, 7, none⟩ (.int .i64 g.d)).setCell ⟨b, 8, none⟩ (.int .i64 g.op)).setCell ⟨b, 9, none⟩ (.int .i64 g.cl)) from ((((((((((HR.out.setCell (p := ⟨b, 0, none⟩) hb1 _).setCell (p := ⟨b, 1, none⟩) hb1 _).setCell (p := ⟨b, 2, none⟩) hb1 _).setCell (p := ⟨b, 3, none⟩) hb1 _).setCell (p := ⟨b, 4, none⟩) hb1 _).setCell (p := ⟨b, 5, none⟩) hb1 _).setCell (p := ⟨b, 6, none⟩) hb1 _).setCell (p := ⟨b, 7, none⟩) hb1 _).setCell (p := ⟨b, 8, none⟩) hb1 _).setCell (p := ⟨b, 9, none⟩) hb1 _))
      exact hK.out _ _ ⟨_, _, _, _, _, _, _, _, _, _, _, _, rfl, HR, F0, F1, F2, F3, F4, F5, F6, F7, hide (fun _ => rfl), F9, hide (fun _ h2 => by simp [upd] at h2), hide (fun _ => ⟨hB.dep 10 (by kernel_rfl), ⟨b, rfl, hb1, HS.out⟩⟩), F12⟩
    · skip
      have d9 := F9.out (hB.dep 9 (by kernel_rfl))
      rw [d9]
      clear d9
      refine wpOp_list' (o := _) rfl (fun K hK => ?_)
      go_wp2_with fail
      exact hK.out _ _ ⟨_, _, _, _, _, _, _, _, _, _, _, _, rfl, HR, F0, F1, F2, F3, F4, F5, F6, F7, F8, hide (fun _ => rfl), F10, F11, hide (fun _ => rfl)⟩
  · intro f q wx hall hI
    obtain ⟨v11, v12, v19, v20, v21, v22, v23, v24, v25, v26, v27, v28, rfl, HR, F0, F1, F2, F3, F4, F5, F6, F7, F8, F9, F10, F11, F12⟩ := hI
    have e12 := F12.out (hall 12 (by decide))
    have e11 := (F11.out (hall 11 (by decide))).2
    rw [e12]
    clear e12 F0 F1 F2 F3 F4 F5 F6 F7 F8 F9 F10 F11 F12 hall
    obtain ⟨G, rfl, hG, hgb⟩ := e11
    have HG := hide hgb
    have LG := hide hG
    have HB := hide (HB.out.keep HR.out)
    have HC := hide (HC.out.keep HR.out)
    have HNx := hide ((HR.out.block _ (Array.getElem?_eq_some_iff.1 HN.out).1).trans HN.out)
    have HR := hide (HR0.out.trans (HR.out.mono HR0.out.size))
    clear hgb hG HR0 HN
    skip
    have r0 := (row_cell HNx.out (Below.refl _ _) 0).1
    have r1 := (row_cell HNx.out (Below.refl _ _) 1).1
    simp only [List.getElem?_toArray, List.getElem?_cons_zero, List.getElem?_cons_succ] at r0 r1
    obtain ⟨_, c0, c1, c2, c3, c4, c5, c6, c7, c8, c9⟩ := HB.out
    obtain ⟨_, e0, e1, e2, e3, e4, e5, e6, e7, e8, e9⟩ := HC.out
    go_wp2_with fail
    refine ((RR _).out).mono ?_
    rintro e x2 ⟨rfl, hb⟩
    clear r0 r1 c0 c1 c2 c3 c4 c5 c6 c7 c8 c9 e0 e1 e2 e3 e4 e5 e6 e7 e8 e9
    have HB := hide (HB.out.keep hb)
    have HC := hide (HC.out.keep hb)
    have HG := hide (HG.out.keep hb)
    have HNx := hide ((hb.block _ (Array.getElem?_eq_some_iff.1 HNx.out).1).trans HNx.out)
    have HR := hide (HR.out.trans (hb.mono HR.out.size))
    clear hb
    have r0 := (row_cell HNx.out (Below.refl _ _) 0).1
    have r1 := (row_cell HNx.out (Below.refl _ _) 1).1
    simp only [List.getElem?_toArray, List.getElem?_cons_zero, List.getElem?_cons_succ] at r0 r1
    obtain ⟨_, c0, c1, c2, c3, c4, c5, c6, c7, c8, c9⟩ := HB.out
    obtain ⟨_, e0, e1, e2, e3, e4, e5, e6, e7, e8, e9⟩ := HC.out
    go_wp2_with fail
    have ha := one_alloc x2 (Obj.cells #[.string g.rf, .string g.se, .string g.bu, .string g.sn, .int .i64 g.q, .int .i64 g.c, .int .i64 g.n, .int .i64 g.d, .int .i64 g.op, .int .i64 g.cl] 25)
    have HD := hide (RB.new g x2 25)
    have HB := hide (HB.out.keep ha)
    have HC := hide (HC.out.keep ha)
    have HG := hide (HG.out.keep ha)
    have HR := hide (HR.out.trans (ha.mono HR.out.size))
    clear ha HNx c0 c1 c2 c3 c4 c5 c6 c7 c8 c9 e0 e1 e2 e3 e4 e5 e6 e7 e8 e9 r0 r1
    generalize x2.alloc (Obj.cells #[.string g.rf, .string g.se, .string g.bu, .string g.sn, .int .i64 g.q, .int .i64 g.c, .int .i64 g.n, .int .i64 g.d, .int .i64 g.op, .int .i64 g.cl] 25) = Y at *
    generalize x2.heap.size = D at *
    have KS : ∀ y : Sub Y, Hid (Shp y.val) := fun y => hide (S.out.keep (HR.out.trans (y.below.mono HR.out.size)))
    have k0 : ∀ z : Sub Y, z.val.cell? ⟨w.heap.size, 0, none⟩ = some (.string t.rf) := fun z => (HB.out.keep z.below).c0
    have k1 : ∀ z : Sub Y, z.val.cell? ⟨w.heap.size, 1, none⟩ = some (.string t.se) := fun z => (HB.out.keep z.below).c1
    have k2 : ∀ z : Sub Y, z.val.cell? ⟨w.heap.size, 2, none⟩ = some (.string t.bu) := fun z => (HB.out.keep z.below).c2
    have k3 : ∀ z : Sub Y, z.val.cell? ⟨w.heap.size, 3, none⟩ = some (.string t.sn) := fun z => (HB.out.keep z.below).c3
    have k4 : ∀ z : Sub Y, z.val.cell? ⟨w.heap.size, 4, none⟩ = some (.int .i64 t.q) := fun z => (HB.out.keep z.below).c4
    have k5 : ∀ z : Sub Y, z.val.cell? ⟨w.heap.size, 5, none⟩ = some (.int .i64 t.c) := fun z => (HB.out.keep z.below).c5
    have k6 : ∀ z : Sub Y, z.val.cell? ⟨w.heap.size, 6, none⟩ = some (.int .i64 t.n) := fun z => (HB.out.keep z.below).c6
    have k7 : ∀ z : Sub Y, z.val.cell? ⟨w.heap.size, 7, none⟩ = some (.int .i64 t.d) := fun z => (HB.out.keep z.below).c7
    have k8 : ∀ z : Sub Y, z.val.cell? ⟨w.heap.size, 8, none⟩ = some (.int .i64 t.op) := fun z => (HB.out.keep z.below).c8
    have k9 : ∀ z : Sub Y, z.val.cell? ⟨w.heap.size, 9, none⟩ = some (.int .i64 t.cl) := fun z => (HB.out.keep z.below).c9
    have j0 : ∀ z : Sub Y, z.val.cell? ⟨w.heap.size + 1, 0, none⟩ = some (.string u.rf) := fun z => (HC.out.keep z.below).c0
    have j1 : ∀ z : Sub Y, z.val.cell? ⟨w.heap.size + 1, 1, none⟩ = some (.string u.se) := fun z => (HC.out.keep z.below).c1
    have j2 : ∀ z : Sub Y, z.val.cell? ⟨w.heap.size + 1, 2, none⟩ = some (.string u.bu) := fun z => (HC.out.keep z.below).c2
    have j3 : ∀ z : Sub Y, z.val.cell? ⟨w.heap.size + 1, 3, none⟩ = some (.string u.sn) := fun z => (HC.out.keep z.below).c3
    have j4 : ∀ z : Sub Y, z.val.cell? ⟨w.heap.size + 1, 4, none⟩ = some (.int .i64 u.q) := fun z => (HC.out.keep z.below).c4
    have j5 : ∀ z : Sub Y, z.val.cell? ⟨w.heap.size + 1, 5, none⟩ = some (.int .i64 u.c) := fun z => (HC.out.keep z.below).c5
    have j6 : ∀ z : Sub Y, z.val.cell? ⟨w.heap.size + 1, 6, none⟩ = some (.int .i64 u.n) := fun z => (HC.out.keep z.below).c6
    have j7 : ∀ z : Sub Y, z.val.cell? ⟨w.heap.size + 1, 7, none⟩ = some (.int .i64 u.d) := fun z => (HC.out.keep z.below).c7
    have j8 : ∀ z : Sub Y, z.val.cell? ⟨w.heap.size + 1, 8, none⟩ = some (.int .i64 u.op) := fun z => (HC.out.keep z.below).c8
    have j9 : ∀ z : Sub Y, z.val.cell? ⟨w.heap.size + 1, 9, none⟩ = some (.int .i64 u.cl) := fun z => (HC.out.keep z.below).c9
    refine wp_region_sub (w0 := Y) (by kernel_rfl) (by kernel_rfl) (Below.refl _ _).drew ?_
    repeat (first | go_big_quiet_step ((first | (go_at_call 8; exact sub_of _ (conv_any _ _)) | (go_at_call 19; exact sub_of _ (NE _ (KS _).out).out))) | quiet_step ((first | (go_at_call 8; exact sub_of _ (conv_any _ _)) | (go_at_call 19; exact sub_of _ (NE _ (KS _).out).out))))
    refine wpQuiet_nil ?_
    rintro _ ⟨z, rfl⟩
    clear KS k0 k1 k2 k3 k4 k5 k6 k7 k8 k9 j0 j1 j2 j3 j4 j5 j6 j7 j8 j9
    have hb := z.below
    have HB := hide (HB.out.keep hb)
    have HC := hide (HC.out.keep hb)
    have HG := hide (HG.out.keep hb)
    have HD := hide (HD.out.keep hb)
    have HR := hide (HR.out.trans (hb.mono HR.out.size))
    clear hb
    generalize z.val = y3 at *
    clear z
    obtain ⟨_, c0, c1, c2, c3, c4, c5, c6, c7, c8, c9⟩ := HB.out
    obtain ⟨_, e0, e1, e2, e3, e4, e5, e6, e7, e8, e9⟩ := HC.out
    go_wp2_with fail
    refine ((RN _).out).mono ?_
    rintro e Q ⟨rfl, hb⟩
    clear c0 c1 c2 c3 c4 c5 c6 c7 c8 c9 e0 e1 e2 e3 e4 e5 e6 e7 e8 e9
    have HG := hide (HG.out.keep hb)
    have HD := hide (HD.out.keep hb)
    have HR := hide (HR.out.trans (hb.mono HR.out.size))
    clear hb HB HC
    go_wp2_with fail
    have KS : ∀ y : Sub Q, Hid (Shp y.val) := fun y => hide (S.out.keep (HR.out.trans (y.below.mono HR.out.size)))
    have k0 : ∀ z : Sub Q, z.val.cell? ⟨G, 0, none⟩ = some (.string g.rf) := fun z => (HG.out.keep z.below).c0
    have k1 : ∀ z : Sub Q, z.val.cell? ⟨G, 1, none⟩ = some (.string g.se) := fun z => (HG.out.keep z.below).c1
    have k2 : ∀ z : Sub Q, z.val.cell? ⟨G, 2, none⟩ = some (.string g.bu) := fun z => (HG.out.keep z.below).c2
    have k3 : ∀ z : Sub Q, z.val.cell? ⟨G, 3, none⟩ = some (.string g.sn) := fun z => (HG.out.keep z.below).c3
    have k4 : ∀ z : Sub Q, z.val.cell? ⟨G, 4, none⟩ = some (.int .i64 g.q) := fun z => (HG.out.keep z.below).c4
    have k5 : ∀ z : Sub Q, z.val.cell? ⟨G, 5, none⟩ = some (.int .i64 g.c) := fun z => (HG.out.keep z.below).c5
    have k6 : ∀ z : Sub Q, z.val.cell? ⟨G, 6, none⟩ = some (.int .i64 g.n) := fun z => (HG.out.keep z.below).c6
    have k7 : ∀ z : Sub Q, z.val.cell? ⟨G, 7, none⟩ = some (.int .i64 g.d) := fun z => (HG.out.keep z.below).c7
    have k8 : ∀ z : Sub Q, z.val.cell? ⟨G, 8, none⟩ = some (.int .i64 g.op) := fun z => (HG.out.keep z.below).c8
    have k9 : ∀ z : Sub Q, z.val.cell? ⟨G, 9, none⟩ = some (.int .i64 g.cl) := fun z => (HG.out.keep z.below).c9
    have j0 : ∀ z : Sub Q, z.val.cell? ⟨D, 0, none⟩ = some (.string g.rf) := fun z => (HD.out.keep z.below).c0
    have j1 : ∀ z : Sub Q, z.val.cell? ⟨D, 1, none⟩ = some (.string g.se) := fun z => (HD.out.keep z.below).c1
    have j2 : ∀ z : Sub Q, z.val.cell? ⟨D, 2, none⟩ = some (.string g.bu) := fun z => (HD.out.keep z.below).c2
    have j3 : ∀ z : Sub Q, z.val.cell? ⟨D, 3, none⟩ = some (.string g.sn) := fun z => (HD.out.keep z.below).c3
    have j4 : ∀ z : Sub Q, z.val.cell? ⟨D, 4, none⟩ = some (.int .i64 g.q) := fun z => (HD.out.keep z.below).c4
    have j5 : ∀ z : Sub Q, z.val.cell? ⟨D, 5, none⟩ = some (.int .i64 g.c) := fun z => (HD.out.keep z.below).c5
    have j6 : ∀ z : Sub Q, z.val.cell? ⟨D, 6, none⟩ = some (.int .i64 g.n) := fun z => (HD.out.keep z.below).c6
    have j7 : ∀ z : Sub Q, z.val.cell? ⟨D, 7, none⟩ = some (.int .i64 g.d) := fun z => (HD.out.keep z.below).c7
    have j8 : ∀ z : Sub Q, z.val.cell? ⟨D, 8, none⟩ = some (.int .i64 g.op) := fun z => (HD.out.keep z.below).c8
    have j9 : ∀ z : Sub Q, z.val.cell? ⟨D, 9, none⟩ = some (.int .i64 g.cl) := fun z => (HD.out.keep z.below).c9
    refine wp_region_sub (w0 := Q) (by kernel_rfl) (by kernel_rfl) (Below.refl _ _).drew ?_
    repeat (first | go_big_quiet_step ((first | (go_at_call 13; exact sub_of _ (KN _ (KS _).out).out) | (go_at_call 21; exact sub_of _ (BK _).out))) | quiet_step ((first | (go_at_call 13; exact sub_of _ (KN _ (KS _).out).out) | (go_at_call 21; exact sub_of _ (BK _).out))))
    refine wpQuiet_nil ?_
    rintro _ ⟨z, rfl⟩
    go_wp2_with fail
    go_ret
    exact ⟨rfl, HR.out.trans (z.below.mono HR.out.size)⟩

end Go.Proofs.YtjjaemobgfconaaDoor
