/-
  Roll.
-/
import Derived.Test.YtjjaemobgfconaaDoorE8
import Derived.WalkKit
import Derived.Deep.QuietTactic
import Derived.BigQuiet
import Derived.Laws.EntriesVeiled
import Derived.Lib.MinMax
import Derived.Deep.Light
import Derived.Laws.Rows
import Derived.Deep.CutBlock
import Derived.Deep.DeepCutAuto
namespace Go.Proofs.YtjjaemobgfconaaDoor
open Go.RowKit
set_option linter.unusedVariables false
set_option linter.unusedSimpArgs false
set_option linter.unnecessarySimpa false

/-- The agreement that follows. -/
def nxA (t : Ag) (s : ByteArray) (cl2 n2 d2 : Int) : Ag := ⟨s, t.se, t.bu, t.sn, t.q, reV t, n2, d2, t.cl, cl2⟩
/-- What Roll answers: the error; the agreement. -/
def roE (t : Ag) (s : ByteArray) (cl2 n2 d2 : Int) : Int := if agE t ≠ 0 then agE t else if s = t.rf then 7 else agE (nxA t s cl2 n2 d2)
def zAg : Ag := ⟨⟨#[]⟩, ⟨#[]⟩, ⟨#[]⟩, ⟨#[]⟩, 0, 0, 0, 0, 0, 0⟩
def roA (t : Ag) (s : ByteArray) (cl2 n2 d2 : Int) : Ag := if roE t s cl2 n2 d2 = 0 then nxA t s cl2 n2 d2 else zAg
theorem reV_bd {t : Ag} (h : agE t = 0) : 0 ≤ reV t ∧ reV t ≤ 1000000000000000 := by
  obtain ⟨z0, z1, z2, z3⟩ := ag_ok h
  have hd := day_of z2
  have hF := fit_of z1
  obtain ⟨v1, v2⟩ := iV_bd hF (k := t.cl - t.op) (by omega) (by omega)
  have c1 := hF.c1
  unfold rpE at z3
  unfold reV
  rw [if_neg (by rw [h]; decide)]
  split at z3
  · cases z3
  · omega
theorem nx_ok {t : Ag} {s : ByteArray} {cl2 n2 d2 : Int} (h : t.Ok) (hz : agE t = 0) (hs : s.size ≤ 9223372036854775807) (hc : -9223372036854775808 ≤ cl2 ∧ cl2 ≤ 9223372036854775807) (hn : -9223372036854775808 ≤ n2 ∧ n2 ≤ 9223372036854775807) (hd : -9223372036854775808 ≤ d2 ∧ d2 ≤ 9223372036854775807) : (nxA t s cl2 n2 d2).Ok := by
  have := reV_bd hz
  exact ⟨hs, h.se, h.bu, h.sn, h.q, (by show -9223372036854775808 ≤ reV t ∧ reV t ≤ 9223372036854775807; omega), hn, hd, h.cl, hc⟩
set_option maxHeartbeats 8000000 in
set_option maxRecDepth 20000 in
theorem roll_any (t : Ag) (s : ByteArray) (cl2 n2 d2 : Int) (w : World) (S : Shp w) (h : t.Ok) (hs : s.size ≤ 9223372036854775807) (hc : -9223372036854775808 ≤ cl2 ∧ cl2 ≤ 9223372036854775807) (hn : -9223372036854775808 ≤ n2 ∧ n2 ≤ 9223372036854775807) (hd : -9223372036854775808 ≤ d2 ∧ d2 ≤ 9223372036854775807) :
    Calls Tryd.prog 16 #[.agg #[.string t.rf, .string t.se, .string t.bu, .string t.sn, .int .i64 t.q, .int .i64 t.c, .int .i64 t.n, .int .i64 t.d, .int .i64 t.op, .int .i64 t.cl], .string s, .int .i64 cl2, .agg #[.int .i64 n2, .int .i64 d2]] w fun e w' => e = .returned (.tuple #[.agg #[.string (roA t s cl2 n2 d2).rf, .string (roA t s cl2 n2 d2).se, .string (roA t s cl2 n2 d2).bu, .string (roA t s cl2 n2 d2).sn, .int .i64 (roA t s cl2 n2 d2).q, .int .i64 (roA t s cl2 n2 d2).c, .int .i64 (roA t s cl2 n2 d2).n, .int .i64 (roA t s cl2 n2 d2).d, .int .i64 (roA t s cl2 n2 d2).op, .int .i64 (roA t s cl2 n2 d2).cl], .int .i64 (roE t s cl2 n2 d2)]) ∧ Below w.heap.size w w' := by
  have S := hide S
  have RP := fun w S => hide (repay_any t w S h)
  have CK : agE t = 0 → ∀ w, Shp w → Hid (Calls Tryd.prog 14 #[.agg #[.string s, .string t.se, .string t.bu, .string t.sn, .int .i64 t.q, .int .i64 (reV t), .int .i64 n2, .int .i64 d2, .int .i64 t.cl, .int .i64 cl2]] w fun e w' => e = .returned (.int .i64 (agE (nxA t s cl2 n2 d2))) ∧ Below w.heap.size w w') := fun hz w S => hide (acheck_any (nxA t s cl2 n2 d2) w S (nx_ok h hz hs hc hn hd))
  clear h hs hc hn hd
  have hs1 : (w.alloc (Obj.cells #[.string t.rf, .string t.se, .string t.bu, .string t.sn, .int .i64 t.q, .int .i64 t.c, .int .i64 t.n, .int .i64 t.d, .int .i64 t.op, .int .i64 t.cl] 28)).heap.size = w.heap.size + 1 := Array.size_push _
  have hs2 : ((w.alloc (Obj.cells #[.string t.rf, .string t.se, .string t.bu, .string t.sn, .int .i64 t.q, .int .i64 t.c, .int .i64 t.n, .int .i64 t.d, .int .i64 t.op, .int .i64 t.cl] 28)).alloc (Obj.cells #[.int .i64 n2, .int .i64 d2] 26)).heap.size = w.heap.size + 1 + 1 := (Array.size_push _).trans (by rw [hs1])
  have B1 := (two_allocs w (Obj.cells #[.string t.rf, .string t.se, .string t.bu, .string t.sn, .int .i64 t.q, .int .i64 t.c, .int .i64 t.n, .int .i64 t.d, .int .i64 t.op, .int .i64 t.cl] 28) (Obj.cells #[.int .i64 n2, .int .i64 d2] 26))
  have B2 := one_alloc ((w.alloc (Obj.cells #[.string t.rf, .string t.se, .string t.bu, .string t.sn, .int .i64 t.q, .int .i64 t.c, .int .i64 t.n, .int .i64 t.d, .int .i64 t.op, .int .i64 t.cl] 28)).alloc (Obj.cells #[.int .i64 n2, .int .i64 d2] 26)) (Obj.cells #[.string ⟨#[]⟩, .string ⟨#[]⟩, .string ⟨#[]⟩, .string ⟨#[]⟩, .int .i64 0, .int .i64 0, .int .i64 0, .int .i64 0, .int .i64 0, .int .i64 0] 28)
  have HR := hide (B1.trans (B2.mono B1.size))
  have HB := hide (((RB.new t w 28).keep (one_alloc _ (Obj.cells #[.int .i64 n2, .int .i64 d2] 26))).keep B2)
  have hX : (((w.alloc (Obj.cells #[.string t.rf, .string t.se, .string t.bu, .string t.sn, .int .i64 t.q, .int .i64 t.c, .int .i64 t.n, .int .i64 t.d, .int .i64 t.op, .int .i64 t.cl] 28)).alloc (Obj.cells #[.int .i64 n2, .int .i64 d2] 26)).alloc (Obj.cells #[.string ⟨#[]⟩, .string ⟨#[]⟩, .string ⟨#[]⟩, .string ⟨#[]⟩, .int .i64 0, .int .i64 0, .int .i64 0, .int .i64 0, .int .i64 0, .int .i64 0] 28)).heap[w.heap.size + 1 + 1]? = some (.cells #[.string ⟨#[]⟩, .string ⟨#[]⟩, .string ⟨#[]⟩, .string ⟨#[]⟩, .int .i64 0, .int .i64 0, .int .i64 0, .int .i64 0, .int .i64 0, .int .i64 0] 28 (0, 0)) := by
    have h := Array.getElem?_push_size (xs := ((w.alloc (Obj.cells #[.string t.rf, .string t.se, .string t.bu, .string t.sn, .int .i64 t.q, .int .i64 t.c, .int .i64 t.n, .int .i64 t.d, .int .i64 t.op, .int .i64 t.cl] 28)).alloc (Obj.cells #[.int .i64 n2, .int .i64 d2] 26)).heap) (x := Obj.cells #[.string ⟨#[]⟩, .string ⟨#[]⟩, .string ⟨#[]⟩, .string ⟨#[]⟩, .int .i64 0, .int .i64 0, .int .i64 0, .int .i64 0, .int .i64 0, .int .i64 0] 28)
    rw [hs2] at h
    exact h
  have hY : (((w.alloc (Obj.cells #[.string t.rf, .string t.se, .string t.bu, .string t.sn, .int .i64 t.q, .int .i64 t.c, .int .i64 t.n, .int .i64 t.d, .int .i64 t.op, .int .i64 t.cl] 28)).alloc (Obj.cells #[.int .i64 n2, .int .i64 d2] 26)).alloc (Obj.cells #[.string ⟨#[]⟩, .string ⟨#[]⟩, .string ⟨#[]⟩, .string ⟨#[]⟩, .int .i64 0, .int .i64 0, .int .i64 0, .int .i64 0, .int .i64 0, .int .i64 0] 28)).heap[w.heap.size + 1]? = some (.cells #[.int .i64 n2, .int .i64 d2] 26 (0, 0)) := by
    have h := Array.getElem?_push_size (xs := (w.alloc (Obj.cells #[.string t.rf, .string t.se, .string t.bu, .string t.sn, .int .i64 t.q, .int .i64 t.c, .int .i64 t.n, .int .i64 t.d, .int .i64 t.op, .int .i64 t.cl] 28)).heap) (x := Obj.cells #[.int .i64 n2, .int .i64 d2] 26)
    rw [hs1] at h
    exact (B2.block (w.heap.size + 1) (by rw [hs2]; omega)).trans h
  have HX := hide hX
  have HY := hide hY
  clear hX hY B1 B2 hs1 hs2
  by_cases hz : agE t = 0
  · by_cases hq : s = t.rf
    · have e1 : roE t s cl2 n2 d2 = 7 := by unfold roE; rw [if_neg (by rw [hz]; decide), if_pos hq]
      have e2 : roA t s cl2 n2 d2 = zAg := by unfold roA; rw [if_neg (by rw [e1]; decide)]
      rw [e1, e2]
      rw [hz] at RP
      subst hq
      clear e1 e2 hz CK HY
      go_enter Tryd.func16, Tryd.ntmps16
      obtain ⟨_, c0, c1, c2, c3, c4, c5, c6, c7, c8, c9⟩ := HB.out
      go_wp2_with fail
      generalize ((w.alloc (Obj.cells #[.string t.rf, .string t.se, .string t.bu, .string t.sn, .int .i64 t.q, .int .i64 t.c, .int .i64 t.n, .int .i64 t.d, .int .i64 t.op, .int .i64 t.cl] 28)).alloc (Obj.cells #[.int .i64 n2, .int .i64 d2] 26)).alloc (Obj.cells #[.string ⟨#[]⟩, .string ⟨#[]⟩, .string ⟨#[]⟩, .string ⟨#[]⟩, .int .i64 0, .int .i64 0, .int .i64 0, .int .i64 0, .int .i64 0, .int .i64 0] 28) = X at *
      refine ((RP _ (S.out.keep HR.out)).out).mono ?_
      rintro e x1 ⟨rfl, hb⟩
      have HB := hide (HB.out.keep hb)
      have HR := hide (HR.out.trans (hb.mono HR.out.size))
      clear c0 c1 c2 c3 c4 c5 c6 c7 c8 c9
      obtain ⟨_, c0, c1, c2, c3, c4, c5, c6, c7, c8, c9⟩ := HB.out
      have y0 : x1.cell? ⟨w.heap.size + 1 + 1, 0, none⟩ = some (.string ⟨#[]⟩) := (row_cell HX.out hb 0).1
      have y1 : x1.cell? ⟨w.heap.size + 1 + 1, 1, none⟩ = some (.string ⟨#[]⟩) := (row_cell HX.out hb 1).1
      have y2 : x1.cell? ⟨w.heap.size + 1 + 1, 2, none⟩ = some (.string ⟨#[]⟩) := (row_cell HX.out hb 2).1
      have y3 : x1.cell? ⟨w.heap.size + 1 + 1, 3, none⟩ = some (.string ⟨#[]⟩) := (row_cell HX.out hb 3).1
      have y4 : x1.cell? ⟨w.heap.size + 1 + 1, 4, none⟩ = some (.int .i64 0) := (row_cell HX.out hb 4).1
      have y5 : x1.cell? ⟨w.heap.size + 1 + 1, 5, none⟩ = some (.int .i64 0) := (row_cell HX.out hb 5).1
      have y6 : x1.cell? ⟨w.heap.size + 1 + 1, 6, none⟩ = some (.int .i64 0) := (row_cell HX.out hb 6).1
      have y7 : x1.cell? ⟨w.heap.size + 1 + 1, 7, none⟩ = some (.int .i64 0) := (row_cell HX.out hb 7).1
      have y8 : x1.cell? ⟨w.heap.size + 1 + 1, 8, none⟩ = some (.int .i64 0) := (row_cell HX.out hb 8).1
      have y9 : x1.cell? ⟨w.heap.size + 1 + 1, 9, none⟩ = some (.int .i64 0) := (row_cell HX.out hb 9).1
      have yf : ∀ j, x1.frozen? ⟨w.heap.size + 1 + 1, j, none⟩ = false := fun j => (row_cell HX.out hb j).2
      clear hb
      go_wp2_with fail
      exact bodyPost_ret (v := .tuple #[.agg #[.string ⟨#[]⟩, .string ⟨#[]⟩, .string ⟨#[]⟩, .string ⟨#[]⟩, .int .i64 0, .int .i64 0, .int .i64 0, .int .i64 0, .int .i64 0, .int .i64 0], .int .i64 7]) (by simp [results, Tryd.results16, go_sem, y0, y1, y2, y3, y4, y5, y6, y7, y8, y9, yf]) rfl ⟨rfl, ((((((((((HR.out.setCell (p := ⟨w.heap.size + 1 + 1, 0, none⟩) (show w.heap.size ≤ w.heap.size + 1 + 1 by omega) _).setCell (p := ⟨w.heap.size + 1 + 1, 1, none⟩) (show w.heap.size ≤ w.heap.size + 1 + 1 by omega) _).setCell (p := ⟨w.heap.size + 1 + 1, 2, none⟩) (show w.heap.size ≤ w.heap.size + 1 + 1 by omega) _).setCell (p := ⟨w.heap.size + 1 + 1, 3, none⟩) (show w.heap.size ≤ w.heap.size + 1 + 1 by omega) _).setCell (p := ⟨w.heap.size + 1 + 1, 4, none⟩) (show w.heap.size ≤ w.heap.size + 1 + 1 by omega) _).setCell (p := ⟨w.heap.size + 1 + 1, 5, none⟩) (show w.heap.size ≤ w.heap.size + 1 + 1 by omega) _).setCell (p := ⟨w.heap.size + 1 + 1, 6, none⟩) (show w.heap.size ≤ w.heap.size + 1 + 1 by omega) _).setCell (p := ⟨w.heap.size + 1 + 1, 7, none⟩) (show w.heap.size ≤ w.heap.size + 1 + 1 by omega) _).setCell (p := ⟨w.heap.size + 1 + 1, 8, none⟩) (show w.heap.size ≤ w.heap.size + 1 + 1 by omega) _).setCell (p := ⟨w.heap.size + 1 + 1, 9, none⟩) (show w.heap.size ≤ w.heap.size + 1 + 1 by omega) _)⟩
    · have hq' := toList_ne hq
      rw [hz] at RP
      have CK := CK hz
      by_cases hz2 : agE (nxA t s cl2 n2 d2) = 0
      · have e1 : roE t s cl2 n2 d2 = 0 := by unfold roE; rw [if_neg (by rw [hz]; decide), if_neg hq]; exact hz2
        have e2 : roA t s cl2 n2 d2 = nxA t s cl2 n2 d2 := by unfold roA; rw [if_pos e1]
        rw [e1, e2]
        rw [hz2] at CK
        clear e1 e2 hz hz2 hq
        go_enter Tryd.func16, Tryd.ntmps16
        obtain ⟨_, c0, c1, c2, c3, c4, c5, c6, c7, c8, c9⟩ := HB.out
        go_wp2_with fail
        generalize ((w.alloc (Obj.cells #[.string t.rf, .string t.se, .string t.bu, .string t.sn, .int .i64 t.q, .int .i64 t.c, .int .i64 t.n, .int .i64 t.d, .int .i64 t.op, .int .i64 t.cl] 28)).alloc (Obj.cells #[.int .i64 n2, .int .i64 d2] 26)).alloc (Obj.cells #[.string ⟨#[]⟩, .string ⟨#[]⟩, .string ⟨#[]⟩, .string ⟨#[]⟩, .int .i64 0, .int .i64 0, .int .i64 0, .int .i64 0, .int .i64 0, .int .i64 0] 28) = X at *
        refine ((RP _ (S.out.keep HR.out)).out).mono ?_
        rintro e x1 ⟨rfl, hb⟩
        have HB := hide (HB.out.keep hb)
        have HR := hide (HR.out.trans (hb.mono HR.out.size))
        clear c0 c1 c2 c3 c4 c5 c6 c7 c8 c9
        obtain ⟨_, c0, c1, c2, c3, c4, c5, c6, c7, c8, c9⟩ := HB.out
        have X1 := hide hb
        clear hb
        go_wp2_with fail
        have HN := hide (RB.new t x1 28)
        have hA := one_alloc x1 (Obj.cells #[.string t.rf, .string t.se, .string t.bu, .string t.sn, .int .i64 t.q, .int .i64 t.c, .int .i64 t.n, .int .i64 t.d, .int .i64 t.op, .int .i64 t.cl] 28)
        have HW := hide (show (x1.alloc (Obj.cells #[.string t.rf, .string t.se, .string t.bu, .string t.sn, .int .i64 t.q, .int .i64 t.c, .int .i64 t.n, .int .i64 t.d, .int .i64 t.op, .int .i64 t.cl] 28)).heap[x1.heap.size]? = some (.cells #[.string t.rf, .string t.se, .string t.bu, .string t.sn, .int .i64 t.q, .int .i64 t.c, .int .i64 t.n, .int .i64 t.d, .int .i64 t.op, .int .i64 t.cl] 28 (0, 0)) from Array.getElem?_push_size)
        have X2 := hide (X1.out.trans (hA.mono X1.out.size))
        have HB := hide (HB.out.keep hA)
        have HR := hide (HR.out.trans (hA.mono HR.out.size))
        have LB := hide X1.out.size
        have L1 := hide (show w.heap.size + 1 + 1 < x1.heap.size from Nat.lt_of_lt_of_le (Array.getElem?_eq_some_iff.1 HX.out).1 X1.out.size)
        clear hA c0 c1 c2 c3 c4 c5 c6 c7 c8 c9
        generalize x1.alloc (Obj.cells #[.string t.rf, .string t.se, .string t.bu, .string t.sn, .int .i64 t.q, .int .i64 t.c, .int .i64 t.n, .int .i64 t.d, .int .i64 t.op, .int .i64 t.cl] 28) = x2 at *
        generalize x1.heap.size = B at *
        have r0 : x2.cell? ⟨w.heap.size + 1, 0, none⟩ = some (.int .i64 n2) := (row_cell HY.out X2.out 0).1
        have r1 : x2.cell? ⟨w.heap.size + 1, 1, none⟩ = some (.int .i64 d2) := (row_cell HY.out X2.out 1).1
        have q8 := HB.out.c9
        obtain ⟨_, c0, c1, c2, c3, c4, c5, c6, c7, c8, c9⟩ := HN.out
        have cf : ∀ j, x2.frozen? ⟨B, j, none⟩ = false := fun j => (row_cell HW.out (Below.refl _ _) j).2
        have ne1 : ¬ (w.heap.size + 1 = B) := by have := L1.out; omega
        have ne2 : ¬ (B = w.heap.size + 1) := by have := L1.out; omega
        have ne3 : ¬ (w.heap.size = B) := by have := L1.out; omega
        have ne4 : ¬ (B = w.heap.size) := by have := L1.out; omega
        go_region
        have LN : B < (((((((x2.setCell ⟨B, 0, none⟩ (.string s)).setCell ⟨B, 5, none⟩ (.int .i64 (reV t))).setCell ⟨B, 6, none⟩ (.int .i64 n2)).setCell ⟨B, 7, none⟩ (.int .i64 d2)).setCell ⟨B, 8, none⟩ (.int .i64 t.cl)).setCell ⟨B, 9, none⟩ (.int .i64 cl2)).drew).heap.size := by simpa using HN.out.lt
        have HN3 := hide (show RB B (nxA t s cl2 n2 d2) (((((((x2.setCell ⟨B, 0, none⟩ (.string s)).setCell ⟨B, 5, none⟩ (.int .i64 (reV t))).setCell ⟨B, 6, none⟩ (.int .i64 n2)).setCell ⟨B, 7, none⟩ (.int .i64 d2)).setCell ⟨B, 8, none⟩ (.int .i64 t.cl)).setCell ⟨B, 9, none⟩ (.int .i64 cl2)).drew) from ⟨LN, by simp [nxA, go_sem, c0, cf], by simp [nxA, go_sem, c1, cf], by simp [nxA, go_sem, c2, cf], by simp [nxA, go_sem, c3, cf], by simp [nxA, go_sem, c4, cf], by simp [nxA, go_sem, c5, cf], by simp [nxA, go_sem, c6, cf], by simp [nxA, go_sem, c7, cf], by simp [nxA, go_sem, c8, cf], by simp [nxA, go_sem, c9, cf]⟩)
        have X3 := hide (show Below X.heap.size X (((((((x2.setCell ⟨B, 0, none⟩ (.string s)).setCell ⟨B, 5, none⟩ (.int .i64 (reV t))).setCell ⟨B, 6, none⟩ (.int .i64 n2)).setCell ⟨B, 7, none⟩ (.int .i64 d2)).setCell ⟨B, 8, none⟩ (.int .i64 t.cl)).setCell ⟨B, 9, none⟩ (.int .i64 cl2)).drew) from (((((((X2.out.setCell (p := ⟨B, 0, none⟩) (show _ ≤ B from LB.out) _).setCell (p := ⟨B, 5, none⟩) (show _ ≤ B from LB.out) _).setCell (p := ⟨B, 6, none⟩) (show _ ≤ B from LB.out) _).setCell (p := ⟨B, 7, none⟩) (show _ ≤ B from LB.out) _).setCell (p := ⟨B, 8, none⟩) (show _ ≤ B from LB.out) _).setCell (p := ⟨B, 9, none⟩) (show _ ≤ B from LB.out) _)).drew)
        have HR3 := hide (show Below w.heap.size w (((((((x2.setCell ⟨B, 0, none⟩ (.string s)).setCell ⟨B, 5, none⟩ (.int .i64 (reV t))).setCell ⟨B, 6, none⟩ (.int .i64 n2)).setCell ⟨B, 7, none⟩ (.int .i64 d2)).setCell ⟨B, 8, none⟩ (.int .i64 t.cl)).setCell ⟨B, 9, none⟩ (.int .i64 cl2)).drew) from (((((((HR.out.setCell (p := ⟨B, 0, none⟩) (show _ ≤ B from (by have := L1.out; omega)) _).setCell (p := ⟨B, 5, none⟩) (show _ ≤ B from (by have := L1.out; omega)) _).setCell (p := ⟨B, 6, none⟩) (show _ ≤ B from (by have := L1.out; omega)) _).setCell (p := ⟨B, 7, none⟩) (show _ ≤ B from (by have := L1.out; omega)) _).setCell (p := ⟨B, 8, none⟩) (show _ ≤ B from (by have := L1.out; omega)) _).setCell (p := ⟨B, 9, none⟩) (show _ ≤ B from (by have := L1.out; omega)) _)).drew)
        clear r0 r1 q8 cf HN HW X2 HB HR ne1 ne2 ne3 ne4 L1 c0 c1 c2 c3 c4 c5 c6 c7 c8 c9 LB
        generalize ((((((x2.setCell ⟨B, 0, none⟩ (.string s)).setCell ⟨B, 5, none⟩ (.int .i64 (reV t))).setCell ⟨B, 6, none⟩ (.int .i64 n2)).setCell ⟨B, 7, none⟩ (.int .i64 d2)).setCell ⟨B, 8, none⟩ (.int .i64 t.cl)).setCell ⟨B, 9, none⟩ (.int .i64 cl2)).drew = x3 at *
        obtain ⟨_, c0, c1, c2, c3, c4, c5, c6, c7, c8, c9⟩ := HN3.out
        dsimp only [nxA] at c0 c1 c2 c3 c4 c5 c6 c7 c8 c9
        go_wp2_with fail
        refine ((CK _ (S.out.keep HR3.out)).out).mono ?_
        rintro e x4 ⟨rfl, hb⟩
        have HN4 := hide (HN3.out.keep hb)
        have X4 := hide (X3.out.trans (hb.mono X3.out.size))
        have HR := hide (HR3.out.trans (hb.mono HR3.out.size))
        clear hb HN3 HR3 X3 c0 c1 c2 c3 c4 c5 c6 c7 c8 c9
        obtain ⟨_, c0, c1, c2, c3, c4, c5, c6, c7, c8, c9⟩ := HN4.out
        dsimp only [nxA] at c0 c1 c2 c3 c4 c5 c6 c7 c8 c9
        have y0 : x4.cell? ⟨w.heap.size + 1 + 1, 0, none⟩ = some (.string ⟨#[]⟩) := (row_cell HX.out X4.out 0).1
        have y1 : x4.cell? ⟨w.heap.size + 1 + 1, 1, none⟩ = some (.string ⟨#[]⟩) := (row_cell HX.out X4.out 1).1
        have y2 : x4.cell? ⟨w.heap.size + 1 + 1, 2, none⟩ = some (.string ⟨#[]⟩) := (row_cell HX.out X4.out 2).1
        have y3 : x4.cell? ⟨w.heap.size + 1 + 1, 3, none⟩ = some (.string ⟨#[]⟩) := (row_cell HX.out X4.out 3).1
        have y4 : x4.cell? ⟨w.heap.size + 1 + 1, 4, none⟩ = some (.int .i64 0) := (row_cell HX.out X4.out 4).1
        have y5 : x4.cell? ⟨w.heap.size + 1 + 1, 5, none⟩ = some (.int .i64 0) := (row_cell HX.out X4.out 5).1
        have y6 : x4.cell? ⟨w.heap.size + 1 + 1, 6, none⟩ = some (.int .i64 0) := (row_cell HX.out X4.out 6).1
        have y7 : x4.cell? ⟨w.heap.size + 1 + 1, 7, none⟩ = some (.int .i64 0) := (row_cell HX.out X4.out 7).1
        have y8 : x4.cell? ⟨w.heap.size + 1 + 1, 8, none⟩ = some (.int .i64 0) := (row_cell HX.out X4.out 8).1
        have y9 : x4.cell? ⟨w.heap.size + 1 + 1, 9, none⟩ = some (.int .i64 0) := (row_cell HX.out X4.out 9).1
        have yf : ∀ j, x4.frozen? ⟨w.heap.size + 1 + 1, j, none⟩ = false := fun j => (row_cell HX.out X4.out j).2
        go_wp2_with fail
        exact bodyPost_ret (v := .tuple #[.agg #[.string s, .string t.se, .string t.bu, .string t.sn, .int .i64 t.q, .int .i64 (reV t), .int .i64 n2, .int .i64 d2, .int .i64 t.cl, .int .i64 cl2], .int .i64 0]) (by simp [results, Tryd.results16, go_sem, y0, y1, y2, y3, y4, y5, y6, y7, y8, y9, yf]) rfl ⟨rfl, ((((((((((HR.out.setCell (p := ⟨w.heap.size + 1 + 1, 0, none⟩) (show w.heap.size ≤ w.heap.size + 1 + 1 by omega) _).setCell (p := ⟨w.heap.size + 1 + 1, 1, none⟩) (show w.heap.size ≤ w.heap.size + 1 + 1 by omega) _).setCell (p := ⟨w.heap.size + 1 + 1, 2, none⟩) (show w.heap.size ≤ w.heap.size + 1 + 1 by omega) _).setCell (p := ⟨w.heap.size + 1 + 1, 3, none⟩) (show w.heap.size ≤ w.heap.size + 1 + 1 by omega) _).setCell (p := ⟨w.heap.size + 1 + 1, 4, none⟩) (show w.heap.size ≤ w.heap.size + 1 + 1 by omega) _).setCell (p := ⟨w.heap.size + 1 + 1, 5, none⟩) (show w.heap.size ≤ w.heap.size + 1 + 1 by omega) _).setCell (p := ⟨w.heap.size + 1 + 1, 6, none⟩) (show w.heap.size ≤ w.heap.size + 1 + 1 by omega) _).setCell (p := ⟨w.heap.size + 1 + 1, 7, none⟩) (show w.heap.size ≤ w.heap.size + 1 + 1 by omega) _).setCell (p := ⟨w.heap.size + 1 + 1, 8, none⟩) (show w.heap.size ≤ w.heap.size + 1 + 1 by omega) _).setCell (p := ⟨w.heap.size + 1 + 1, 9, none⟩) (show w.heap.size ≤ w.heap.size + 1 + 1 by omega) _)⟩
      · have e1 : roE t s cl2 n2 d2 = agE (nxA t s cl2 n2 d2) := by unfold roE; rw [if_neg (by rw [hz]; decide), if_neg hq]
        have e2 : roA t s cl2 n2 d2 = zAg := by unfold roA; rw [if_neg (by rw [e1]; exact hz2)]
        rw [e1, e2]
        have hz2' : (agE (nxA t s cl2 n2 d2) != 0) = true := by simpa using hz2
        generalize agE (nxA t s cl2 n2 d2) = E2 at *
        clear e1 e2 hz hz2 hq
        go_enter Tryd.func16, Tryd.ntmps16
        obtain ⟨_, c0, c1, c2, c3, c4, c5, c6, c7, c8, c9⟩ := HB.out
        go_wp2_with fail
        generalize ((w.alloc (Obj.cells #[.string t.rf, .string t.se, .string t.bu, .string t.sn, .int .i64 t.q, .int .i64 t.c, .int .i64 t.n, .int .i64 t.d, .int .i64 t.op, .int .i64 t.cl] 28)).alloc (Obj.cells #[.int .i64 n2, .int .i64 d2] 26)).alloc (Obj.cells #[.string ⟨#[]⟩, .string ⟨#[]⟩, .string ⟨#[]⟩, .string ⟨#[]⟩, .int .i64 0, .int .i64 0, .int .i64 0, .int .i64 0, .int .i64 0, .int .i64 0] 28) = X at *
        refine ((RP _ (S.out.keep HR.out)).out).mono ?_
        rintro e x1 ⟨rfl, hb⟩
        have HB := hide (HB.out.keep hb)
        have HR := hide (HR.out.trans (hb.mono HR.out.size))
        clear c0 c1 c2 c3 c4 c5 c6 c7 c8 c9
        obtain ⟨_, c0, c1, c2, c3, c4, c5, c6, c7, c8, c9⟩ := HB.out
        have X1 := hide hb
        clear hb
        go_wp2_with fail
        have HN := hide (RB.new t x1 28)
        have hA := one_alloc x1 (Obj.cells #[.string t.rf, .string t.se, .string t.bu, .string t.sn, .int .i64 t.q, .int .i64 t.c, .int .i64 t.n, .int .i64 t.d, .int .i64 t.op, .int .i64 t.cl] 28)
        have HW := hide (show (x1.alloc (Obj.cells #[.string t.rf, .string t.se, .string t.bu, .string t.sn, .int .i64 t.q, .int .i64 t.c, .int .i64 t.n, .int .i64 t.d, .int .i64 t.op, .int .i64 t.cl] 28)).heap[x1.heap.size]? = some (.cells #[.string t.rf, .string t.se, .string t.bu, .string t.sn, .int .i64 t.q, .int .i64 t.c, .int .i64 t.n, .int .i64 t.d, .int .i64 t.op, .int .i64 t.cl] 28 (0, 0)) from Array.getElem?_push_size)
        have X2 := hide (X1.out.trans (hA.mono X1.out.size))
        have HB := hide (HB.out.keep hA)
        have HR := hide (HR.out.trans (hA.mono HR.out.size))
        have LB := hide X1.out.size
        have L1 := hide (show w.heap.size + 1 + 1 < x1.heap.size from Nat.lt_of_lt_of_le (Array.getElem?_eq_some_iff.1 HX.out).1 X1.out.size)
        clear hA c0 c1 c2 c3 c4 c5 c6 c7 c8 c9
        generalize x1.alloc (Obj.cells #[.string t.rf, .string t.se, .string t.bu, .string t.sn, .int .i64 t.q, .int .i64 t.c, .int .i64 t.n, .int .i64 t.d, .int .i64 t.op, .int .i64 t.cl] 28) = x2 at *
        generalize x1.heap.size = B at *
        have r0 : x2.cell? ⟨w.heap.size + 1, 0, none⟩ = some (.int .i64 n2) := (row_cell HY.out X2.out 0).1
        have r1 : x2.cell? ⟨w.heap.size + 1, 1, none⟩ = some (.int .i64 d2) := (row_cell HY.out X2.out 1).1
        have q8 := HB.out.c9
        obtain ⟨_, c0, c1, c2, c3, c4, c5, c6, c7, c8, c9⟩ := HN.out
        have cf : ∀ j, x2.frozen? ⟨B, j, none⟩ = false := fun j => (row_cell HW.out (Below.refl _ _) j).2
        have ne1 : ¬ (w.heap.size + 1 = B) := by have := L1.out; omega
        have ne2 : ¬ (B = w.heap.size + 1) := by have := L1.out; omega
        have ne3 : ¬ (w.heap.size = B) := by have := L1.out; omega
        have ne4 : ¬ (B = w.heap.size) := by have := L1.out; omega
        go_region
        have LN : B < (((((((x2.setCell ⟨B, 0, none⟩ (.string s)).setCell ⟨B, 5, none⟩ (.int .i64 (reV t))).setCell ⟨B, 6, none⟩ (.int .i64 n2)).setCell ⟨B, 7, none⟩ (.int .i64 d2)).setCell ⟨B, 8, none⟩ (.int .i64 t.cl)).setCell ⟨B, 9, none⟩ (.int .i64 cl2)).drew).heap.size := by simpa using HN.out.lt
        have HN3 := hide (show RB B (nxA t s cl2 n2 d2) (((((((x2.setCell ⟨B, 0, none⟩ (.string s)).setCell ⟨B, 5, none⟩ (.int .i64 (reV t))).setCell ⟨B, 6, none⟩ (.int .i64 n2)).setCell ⟨B, 7, none⟩ (.int .i64 d2)).setCell ⟨B, 8, none⟩ (.int .i64 t.cl)).setCell ⟨B, 9, none⟩ (.int .i64 cl2)).drew) from ⟨LN, by simp [nxA, go_sem, c0, cf], by simp [nxA, go_sem, c1, cf], by simp [nxA, go_sem, c2, cf], by simp [nxA, go_sem, c3, cf], by simp [nxA, go_sem, c4, cf], by simp [nxA, go_sem, c5, cf], by simp [nxA, go_sem, c6, cf], by simp [nxA, go_sem, c7, cf], by simp [nxA, go_sem, c8, cf], by simp [nxA, go_sem, c9, cf]⟩)
        have X3 := hide (show Below X.heap.size X (((((((x2.setCell ⟨B, 0, none⟩ (.string s)).setCell ⟨B, 5, none⟩ (.int .i64 (reV t))).setCell ⟨B, 6, none⟩ (.int .i64 n2)).setCell ⟨B, 7, none⟩ (.int .i64 d2)).setCell ⟨B, 8, none⟩ (.int .i64 t.cl)).setCell ⟨B, 9, none⟩ (.int .i64 cl2)).drew) from (((((((X2.out.setCell (p := ⟨B, 0, none⟩) (show _ ≤ B from LB.out) _).setCell (p := ⟨B, 5, none⟩) (show _ ≤ B from LB.out) _).setCell (p := ⟨B, 6, none⟩) (show _ ≤ B from LB.out) _).setCell (p := ⟨B, 7, none⟩) (show _ ≤ B from LB.out) _).setCell (p := ⟨B, 8, none⟩) (show _ ≤ B from LB.out) _).setCell (p := ⟨B, 9, none⟩) (show _ ≤ B from LB.out) _)).drew)
        have HR3 := hide (show Below w.heap.size w (((((((x2.setCell ⟨B, 0, none⟩ (.string s)).setCell ⟨B, 5, none⟩ (.int .i64 (reV t))).setCell ⟨B, 6, none⟩ (.int .i64 n2)).setCell ⟨B, 7, none⟩ (.int .i64 d2)).setCell ⟨B, 8, none⟩ (.int .i64 t.cl)).setCell ⟨B, 9, none⟩ (.int .i64 cl2)).drew) from (((((((HR.out.setCell (p := ⟨B, 0, none⟩) (show _ ≤ B from (by have := L1.out; omega)) _).setCell (p := ⟨B, 5, none⟩) (show _ ≤ B from (by have := L1.out; omega)) _).setCell (p := ⟨B, 6, none⟩) (show _ ≤ B from (by have := L1.out; omega)) _).setCell (p := ⟨B, 7, none⟩) (show _ ≤ B from (by have := L1.out; omega)) _).setCell (p := ⟨B, 8, none⟩) (show _ ≤ B from (by have := L1.out; omega)) _).setCell (p := ⟨B, 9, none⟩) (show _ ≤ B from (by have := L1.out; omega)) _)).drew)
        clear r0 r1 q8 cf HN HW X2 HB HR ne1 ne2 ne3 ne4 L1 c0 c1 c2 c3 c4 c5 c6 c7 c8 c9 LB
        generalize ((((((x2.setCell ⟨B, 0, none⟩ (.string s)).setCell ⟨B, 5, none⟩ (.int .i64 (reV t))).setCell ⟨B, 6, none⟩ (.int .i64 n2)).setCell ⟨B, 7, none⟩ (.int .i64 d2)).setCell ⟨B, 8, none⟩ (.int .i64 t.cl)).setCell ⟨B, 9, none⟩ (.int .i64 cl2)).drew = x3 at *
        obtain ⟨_, c0, c1, c2, c3, c4, c5, c6, c7, c8, c9⟩ := HN3.out
        dsimp only [nxA] at c0 c1 c2 c3 c4 c5 c6 c7 c8 c9
        go_wp2_with fail
        refine ((CK _ (S.out.keep HR3.out)).out).mono ?_
        rintro e x4 ⟨rfl, hb⟩
        have HN4 := hide (HN3.out.keep hb)
        have X4 := hide (X3.out.trans (hb.mono X3.out.size))
        have HR := hide (HR3.out.trans (hb.mono HR3.out.size))
        clear hb HN3 HR3 X3 c0 c1 c2 c3 c4 c5 c6 c7 c8 c9
        obtain ⟨_, c0, c1, c2, c3, c4, c5, c6, c7, c8, c9⟩ := HN4.out
        dsimp only [nxA] at c0 c1 c2 c3 c4 c5 c6 c7 c8 c9
        have y0 : x4.cell? ⟨w.heap.size + 1 + 1, 0, none⟩ = some (.string ⟨#[]⟩) := (row_cell HX.out X4.out 0).1
        have y1 : x4.cell? ⟨w.heap.size + 1 + 1, 1, none⟩ = some (.string ⟨#[]⟩) := (row_cell HX.out X4.out 1).1
        have y2 : x4.cell? ⟨w.heap.size + 1 + 1, 2, none⟩ = some (.string ⟨#[]⟩) := (row_cell HX.out X4.out 2).1
        have y3 : x4.cell? ⟨w.heap.size + 1 + 1, 3, none⟩ = some (.string ⟨#[]⟩) := (row_cell HX.out X4.out 3).1
        have y4 : x4.cell? ⟨w.heap.size + 1 + 1, 4, none⟩ = some (.int .i64 0) := (row_cell HX.out X4.out 4).1
        have y5 : x4.cell? ⟨w.heap.size + 1 + 1, 5, none⟩ = some (.int .i64 0) := (row_cell HX.out X4.out 5).1
        have y6 : x4.cell? ⟨w.heap.size + 1 + 1, 6, none⟩ = some (.int .i64 0) := (row_cell HX.out X4.out 6).1
        have y7 : x4.cell? ⟨w.heap.size + 1 + 1, 7, none⟩ = some (.int .i64 0) := (row_cell HX.out X4.out 7).1
        have y8 : x4.cell? ⟨w.heap.size + 1 + 1, 8, none⟩ = some (.int .i64 0) := (row_cell HX.out X4.out 8).1
        have y9 : x4.cell? ⟨w.heap.size + 1 + 1, 9, none⟩ = some (.int .i64 0) := (row_cell HX.out X4.out 9).1
        have yf : ∀ j, x4.frozen? ⟨w.heap.size + 1 + 1, j, none⟩ = false := fun j => (row_cell HX.out X4.out j).2
        go_wp2_with fail
        exact bodyPost_ret (v := .tuple #[.agg #[.string ⟨#[]⟩, .string ⟨#[]⟩, .string ⟨#[]⟩, .string ⟨#[]⟩, .int .i64 0, .int .i64 0, .int .i64 0, .int .i64 0, .int .i64 0, .int .i64 0], .int .i64 E2]) (by simp [results, Tryd.results16, go_sem, y0, y1, y2, y3, y4, y5, y6, y7, y8, y9, yf]) rfl ⟨rfl, ((((((((((HR.out.setCell (p := ⟨w.heap.size + 1 + 1, 0, none⟩) (show w.heap.size ≤ w.heap.size + 1 + 1 by omega) _).setCell (p := ⟨w.heap.size + 1 + 1, 1, none⟩) (show w.heap.size ≤ w.heap.size + 1 + 1 by omega) _).setCell (p := ⟨w.heap.size + 1 + 1, 2, none⟩) (show w.heap.size ≤ w.heap.size + 1 + 1 by omega) _).setCell (p := ⟨w.heap.size + 1 + 1, 3, none⟩) (show w.heap.size ≤ w.heap.size + 1 + 1 by omega) _).setCell (p := ⟨w.heap.size + 1 + 1, 4, none⟩) (show w.heap.size ≤ w.heap.size + 1 + 1 by omega) _).setCell (p := ⟨w.heap.size + 1 + 1, 5, none⟩) (show w.heap.size ≤ w.heap.size + 1 + 1 by omega) _).setCell (p := ⟨w.heap.size + 1 + 1, 6, none⟩) (show w.heap.size ≤ w.heap.size + 1 + 1 by omega) _).setCell (p := ⟨w.heap.size + 1 + 1, 7, none⟩) (show w.heap.size ≤ w.heap.size + 1 + 1 by omega) _).setCell (p := ⟨w.heap.size + 1 + 1, 8, none⟩) (show w.heap.size ≤ w.heap.size + 1 + 1 by omega) _).setCell (p := ⟨w.heap.size + 1 + 1, 9, none⟩) (show w.heap.size ≤ w.heap.size + 1 + 1 by omega) _)⟩
  · have e1 : roE t s cl2 n2 d2 = agE t := by unfold roE; rw [if_pos hz]
    have e2 : roA t s cl2 n2 d2 = zAg := by unfold roA; rw [if_neg (by rw [e1]; exact hz)]
    rw [e1, e2]
    have hz' : (agE t != 0) = true := by simpa using hz
    generalize agE t = E at *
    clear e1 e2 hz CK HY
    go_enter Tryd.func16, Tryd.ntmps16
    obtain ⟨_, c0, c1, c2, c3, c4, c5, c6, c7, c8, c9⟩ := HB.out
    go_wp2_with fail
    generalize ((w.alloc (Obj.cells #[.string t.rf, .string t.se, .string t.bu, .string t.sn, .int .i64 t.q, .int .i64 t.c, .int .i64 t.n, .int .i64 t.d, .int .i64 t.op, .int .i64 t.cl] 28)).alloc (Obj.cells #[.int .i64 n2, .int .i64 d2] 26)).alloc (Obj.cells #[.string ⟨#[]⟩, .string ⟨#[]⟩, .string ⟨#[]⟩, .string ⟨#[]⟩, .int .i64 0, .int .i64 0, .int .i64 0, .int .i64 0, .int .i64 0, .int .i64 0] 28) = X at *
    refine ((RP _ (S.out.keep HR.out)).out).mono ?_
    rintro e x1 ⟨rfl, hb⟩
    have HB := hide (HB.out.keep hb)
    have HR := hide (HR.out.trans (hb.mono HR.out.size))
    clear c0 c1 c2 c3 c4 c5 c6 c7 c8 c9
    obtain ⟨_, c0, c1, c2, c3, c4, c5, c6, c7, c8, c9⟩ := HB.out
    have y0 : x1.cell? ⟨w.heap.size + 1 + 1, 0, none⟩ = some (.string ⟨#[]⟩) := (row_cell HX.out hb 0).1
    have y1 : x1.cell? ⟨w.heap.size + 1 + 1, 1, none⟩ = some (.string ⟨#[]⟩) := (row_cell HX.out hb 1).1
    have y2 : x1.cell? ⟨w.heap.size + 1 + 1, 2, none⟩ = some (.string ⟨#[]⟩) := (row_cell HX.out hb 2).1
    have y3 : x1.cell? ⟨w.heap.size + 1 + 1, 3, none⟩ = some (.string ⟨#[]⟩) := (row_cell HX.out hb 3).1
    have y4 : x1.cell? ⟨w.heap.size + 1 + 1, 4, none⟩ = some (.int .i64 0) := (row_cell HX.out hb 4).1
    have y5 : x1.cell? ⟨w.heap.size + 1 + 1, 5, none⟩ = some (.int .i64 0) := (row_cell HX.out hb 5).1
    have y6 : x1.cell? ⟨w.heap.size + 1 + 1, 6, none⟩ = some (.int .i64 0) := (row_cell HX.out hb 6).1
    have y7 : x1.cell? ⟨w.heap.size + 1 + 1, 7, none⟩ = some (.int .i64 0) := (row_cell HX.out hb 7).1
    have y8 : x1.cell? ⟨w.heap.size + 1 + 1, 8, none⟩ = some (.int .i64 0) := (row_cell HX.out hb 8).1
    have y9 : x1.cell? ⟨w.heap.size + 1 + 1, 9, none⟩ = some (.int .i64 0) := (row_cell HX.out hb 9).1
    have yf : ∀ j, x1.frozen? ⟨w.heap.size + 1 + 1, j, none⟩ = false := fun j => (row_cell HX.out hb j).2
    clear hb
    go_wp2_with fail
    exact bodyPost_ret (v := .tuple #[.agg #[.string ⟨#[]⟩, .string ⟨#[]⟩, .string ⟨#[]⟩, .string ⟨#[]⟩, .int .i64 0, .int .i64 0, .int .i64 0, .int .i64 0, .int .i64 0, .int .i64 0], .int .i64 E]) (by simp [results, Tryd.results16, go_sem, y0, y1, y2, y3, y4, y5, y6, y7, y8, y9, yf]) rfl ⟨rfl, ((((((((((HR.out.setCell (p := ⟨w.heap.size + 1 + 1, 0, none⟩) (show w.heap.size ≤ w.heap.size + 1 + 1 by omega) _).setCell (p := ⟨w.heap.size + 1 + 1, 1, none⟩) (show w.heap.size ≤ w.heap.size + 1 + 1 by omega) _).setCell (p := ⟨w.heap.size + 1 + 1, 2, none⟩) (show w.heap.size ≤ w.heap.size + 1 + 1 by omega) _).setCell (p := ⟨w.heap.size + 1 + 1, 3, none⟩) (show w.heap.size ≤ w.heap.size + 1 + 1 by omega) _).setCell (p := ⟨w.heap.size + 1 + 1, 4, none⟩) (show w.heap.size ≤ w.heap.size + 1 + 1 by omega) _).setCell (p := ⟨w.heap.size + 1 + 1, 5, none⟩) (show w.heap.size ≤ w.heap.size + 1 + 1 by omega) _).setCell (p := ⟨w.heap.size + 1 + 1, 6, none⟩) (show w.heap.size ≤ w.heap.size + 1 + 1 by omega) _).setCell (p := ⟨w.heap.size + 1 + 1, 7, none⟩) (show w.heap.size ≤ w.heap.size + 1 + 1 by omega) _).setCell (p := ⟨w.heap.size + 1 + 1, 8, none⟩) (show w.heap.size ≤ w.heap.size + 1 + 1 by omega) _).setCell (p := ⟨w.heap.size + 1 + 1, 9, none⟩) (show w.heap.size ≤ w.heap.size + 1 + 1 by omega) _)⟩

end Go.Proofs.YtjjaemobgfconaaDoor
