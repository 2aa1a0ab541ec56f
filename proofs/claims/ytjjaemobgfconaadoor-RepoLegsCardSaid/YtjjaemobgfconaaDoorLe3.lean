/-
  Legs, told again.
-/
import Derived.Test.YtjjaemobgfconaaDoorLe2
import Derived.Test.YtjjaemobgfconaaDoorEB
import Derived.Test.YtjjaemobgfconaaDoorED
import Derived.Test.YtjjaemobgfconaaDoorInv
import Derived.WalkKit
import Derived.Deep.QuietTactic
import Derived.BigQuiet
import Derived.Laws.EntriesVeiled
import Derived.Lib.MinMax
import Derived.Deep.Light
import Derived.Laws.Rows
namespace Go.Proofs.YtjjaemobgfconaaDoor
open Go.RowKit
set_option linter.unusedVariables false
set_option linter.unusedSimpArgs false
set_option linter.unnecessarySimpa false

/-- The row of the closing leg on its way: which of its cells are written. -/
def cv (t : Ag) (V : Int) (RA RC : ByteArray) (b1 b2 b5 b7 b11 : Bool) (j : Nat) : Value :=
  if j = 1 then (if b1 then .string t.bu else .string t.se) else if j = 2 then (if b2 then .string t.se else .string t.bu)
  else if j = 5 then (if b5 then .int .i64 V else .int .i64 t.c) else if j = 7 then (if b7 then .int .i64 t.cl else .int .i64 t.op)
  else if j = 11 then (if b11 then .string RC else .string RA) else if j = 12 then (if b11 then .string RC else .string RA)
  else if j = 0 then .int .i64 1 else if j = 3 then .string t.sn else if j = 4 then .int .i64 t.q else if j = 6 then .int .i64 t.op
  else if j = 8 then .int .i64 0 else if j = 9 then .bool false else .int .i64 0
/-- A row at B is on its way; what lies below is kept. -/
structure ST (B : Nat) (x wx : World) (g : Nat → Value) : Prop where
  lt : B < wx.heap.size
  bel : Below B x wx
  fr : ∀ j, wx.frozen? ⟨B, j, none⟩ = false
  c : ∀ j, j < 13 → wx.cell? ⟨B, j, none⟩ = some (g j)
theorem ST.set {B : Nat} {x wx : World} {g g' : Nat → Value} (h : ST B x wx g) (k : Nat) {v : Value} (hk : k < 13) (h1 : g' k = v) (h2 : ∀ j, j ≠ k → g' j = g j) : ST B x (wx.setCell ⟨B, k, none⟩ v) g' := by
  have hc := h.c k hk
  have hf := h.fr
  refine ⟨by simpa using h.lt, h.bel.setCell (p := ⟨B, k, none⟩) (Nat.le_refl _) _, fun j => by simp [go_sem, hf], fun j hj => ?_⟩
  have hj2 := h.c j hj
  by_cases e : j = k
  · subst e
    simp [go_sem, hc, hf, h1]
  · have e2 : ¬ k = j := fun h => e h.symm
    rw [h2 j e]
    simp [go_sem, hc, hj2, hf, e, e2]
set_option maxHeartbeats 16000000 in
set_option maxRecDepth 20000 in
theorem rlegs_any (t : Ag) (w : World) (h : t.Ok) : Calls Tryd.prog 25 #[.agg #[.string t.rf, .string t.se, .string t.bu, .string t.sn, .int .i64 t.q, .int .i64 t.c, .int .i64 t.n, .int .i64 t.d, .int .i64 t.op, .int .i64 t.cl]] w fun e w' => e = .returned (.tuple #[.agg #[.int .i64 (leA t).k, .string (leA t).d, .string (leA t).r, .string (leA t).a, .int .i64 (leA t).q, .int .i64 (leA t).m, .int .i64 (leA t).td, .int .i64 (leA t).sd, .int .i64 (leA t).p, .bool (leA t).pa, .int .i64 (leA t).ml, .string (leA t).r0, .string (leA t).r1], .agg #[.int .i64 (leB t).k, .string (leB t).d, .string (leB t).r, .string (leB t).a, .int .i64 (leB t).q, .int .i64 (leB t).m, .int .i64 (leB t).td, .int .i64 (leB t).sd, .int .i64 (leB t).p, .bool (leB t).pa, .int .i64 (leB t).ml, .string (leB t).r0, .string (leB t).r1], .int .i64 (agE t)]) ∧ Below w.heap.size w w' := by
  have RP := fun w => hide (rrepay_any t w h)
  clear h
  have hs1 : (w.alloc (Obj.cells #[.string t.rf, .string t.se, .string t.bu, .string t.sn, .int .i64 t.q, .int .i64 t.c, .int .i64 t.n, .int .i64 t.d, .int .i64 t.op, .int .i64 t.cl] 25)).heap.size = w.heap.size + 1 := Array.size_push _
  have hs2 : ((w.alloc (Obj.cells #[.string t.rf, .string t.se, .string t.bu, .string t.sn, .int .i64 t.q, .int .i64 t.c, .int .i64 t.n, .int .i64 t.d, .int .i64 t.op, .int .i64 t.cl] 25)).alloc (Obj.cells #[.int .i64 0, .string ⟨#[]⟩, .string ⟨#[]⟩, .string ⟨#[]⟩, .int .i64 0, .int .i64 0, .int .i64 0, .int .i64 0, .int .i64 0, .bool false, .int .i64 0, .string ⟨#[]⟩, .string ⟨#[]⟩] 59)).heap.size = w.heap.size + 1 + 1 := (Array.size_push _).trans (by rw [hs1])
  have A2 := two_allocs (w.alloc (Obj.cells #[.string t.rf, .string t.se, .string t.bu, .string t.sn, .int .i64 t.q, .int .i64 t.c, .int .i64 t.n, .int .i64 t.d, .int .i64 t.op, .int .i64 t.cl] 25)) (Obj.cells #[.int .i64 0, .string ⟨#[]⟩, .string ⟨#[]⟩, .string ⟨#[]⟩, .int .i64 0, .int .i64 0, .int .i64 0, .int .i64 0, .int .i64 0, .bool false, .int .i64 0, .string ⟨#[]⟩, .string ⟨#[]⟩] 59) (Obj.cells #[.int .i64 0, .string ⟨#[]⟩, .string ⟨#[]⟩, .string ⟨#[]⟩, .int .i64 0, .int .i64 0, .int .i64 0, .int .i64 0, .int .i64 0, .bool false, .int .i64 0, .string ⟨#[]⟩, .string ⟨#[]⟩] 59)
  have A1 := one_alloc ((w.alloc (Obj.cells #[.string t.rf, .string t.se, .string t.bu, .string t.sn, .int .i64 t.q, .int .i64 t.c, .int .i64 t.n, .int .i64 t.d, .int .i64 t.op, .int .i64 t.cl] 25)).alloc (Obj.cells #[.int .i64 0, .string ⟨#[]⟩, .string ⟨#[]⟩, .string ⟨#[]⟩, .int .i64 0, .int .i64 0, .int .i64 0, .int .i64 0, .int .i64 0, .bool false, .int .i64 0, .string ⟨#[]⟩, .string ⟨#[]⟩] 59)) (Obj.cells #[.int .i64 0, .string ⟨#[]⟩, .string ⟨#[]⟩, .string ⟨#[]⟩, .int .i64 0, .int .i64 0, .int .i64 0, .int .i64 0, .int .i64 0, .bool false, .int .i64 0, .string ⟨#[]⟩, .string ⟨#[]⟩] 59)
  have A0 := one_alloc w (Obj.cells #[.string t.rf, .string t.se, .string t.bu, .string t.sn, .int .i64 t.q, .int .i64 t.c, .int .i64 t.n, .int .i64 t.d, .int .i64 t.op, .int .i64 t.cl] 25)
  have HR := hide (A0.trans (A2.mono A0.size))
  have HB := hide ((RB.new t w 25).keep A2)
  have h1 := Array.getElem?_push_size (xs := (w.alloc (Obj.cells #[.string t.rf, .string t.se, .string t.bu, .string t.sn, .int .i64 t.q, .int .i64 t.c, .int .i64 t.n, .int .i64 t.d, .int .i64 t.op, .int .i64 t.cl] 25)).heap) (x := Obj.cells #[.int .i64 0, .string ⟨#[]⟩, .string ⟨#[]⟩, .string ⟨#[]⟩, .int .i64 0, .int .i64 0, .int .i64 0, .int .i64 0, .int .i64 0, .bool false, .int .i64 0, .string ⟨#[]⟩, .string ⟨#[]⟩] 59)
  rw [hs1] at h1
  have h2 := Array.getElem?_push_size (xs := ((w.alloc (Obj.cells #[.string t.rf, .string t.se, .string t.bu, .string t.sn, .int .i64 t.q, .int .i64 t.c, .int .i64 t.n, .int .i64 t.d, .int .i64 t.op, .int .i64 t.cl] 25)).alloc (Obj.cells #[.int .i64 0, .string ⟨#[]⟩, .string ⟨#[]⟩, .string ⟨#[]⟩, .int .i64 0, .int .i64 0, .int .i64 0, .int .i64 0, .int .i64 0, .bool false, .int .i64 0, .string ⟨#[]⟩, .string ⟨#[]⟩] 59)).heap) (x := Obj.cells #[.int .i64 0, .string ⟨#[]⟩, .string ⟨#[]⟩, .string ⟨#[]⟩, .int .i64 0, .int .i64 0, .int .i64 0, .int .i64 0, .int .i64 0, .bool false, .int .i64 0, .string ⟨#[]⟩, .string ⟨#[]⟩] 59)
  rw [hs2] at h2
  have HX1 : Hid ((((w.alloc (Obj.cells #[.string t.rf, .string t.se, .string t.bu, .string t.sn, .int .i64 t.q, .int .i64 t.c, .int .i64 t.n, .int .i64 t.d, .int .i64 t.op, .int .i64 t.cl] 25)).alloc (Obj.cells #[.int .i64 0, .string ⟨#[]⟩, .string ⟨#[]⟩, .string ⟨#[]⟩, .int .i64 0, .int .i64 0, .int .i64 0, .int .i64 0, .int .i64 0, .bool false, .int .i64 0, .string ⟨#[]⟩, .string ⟨#[]⟩] 59)).alloc (Obj.cells #[.int .i64 0, .string ⟨#[]⟩, .string ⟨#[]⟩, .string ⟨#[]⟩, .int .i64 0, .int .i64 0, .int .i64 0, .int .i64 0, .int .i64 0, .bool false, .int .i64 0, .string ⟨#[]⟩, .string ⟨#[]⟩] 59)).heap[w.heap.size + 1]? = some (.cells #[.int .i64 0, .string ⟨#[]⟩, .string ⟨#[]⟩, .string ⟨#[]⟩, .int .i64 0, .int .i64 0, .int .i64 0, .int .i64 0, .int .i64 0, .bool false, .int .i64 0, .string ⟨#[]⟩, .string ⟨#[]⟩] 59 (0, 0))) := hide ((A1.block (w.heap.size + 1) (by rw [hs2]; omega)).trans h1)
  have HX2 : Hid ((((w.alloc (Obj.cells #[.string t.rf, .string t.se, .string t.bu, .string t.sn, .int .i64 t.q, .int .i64 t.c, .int .i64 t.n, .int .i64 t.d, .int .i64 t.op, .int .i64 t.cl] 25)).alloc (Obj.cells #[.int .i64 0, .string ⟨#[]⟩, .string ⟨#[]⟩, .string ⟨#[]⟩, .int .i64 0, .int .i64 0, .int .i64 0, .int .i64 0, .int .i64 0, .bool false, .int .i64 0, .string ⟨#[]⟩, .string ⟨#[]⟩] 59)).alloc (Obj.cells #[.int .i64 0, .string ⟨#[]⟩, .string ⟨#[]⟩, .string ⟨#[]⟩, .int .i64 0, .int .i64 0, .int .i64 0, .int .i64 0, .int .i64 0, .bool false, .int .i64 0, .string ⟨#[]⟩, .string ⟨#[]⟩] 59)).heap[w.heap.size + 1 + 1]? = some (.cells #[.int .i64 0, .string ⟨#[]⟩, .string ⟨#[]⟩, .string ⟨#[]⟩, .int .i64 0, .int .i64 0, .int .i64 0, .int .i64 0, .int .i64 0, .bool false, .int .i64 0, .string ⟨#[]⟩, .string ⟨#[]⟩] 59 (0, 0))) := hide h2
  clear A2 A1 A0 h1 h2 hs1 hs2
  by_cases hz : agE t = 0
  · obtain eA : leA t = lgA t := by unfold leA; rw [if_pos hz]
    obtain eB : leB t = lgB t := by unfold leB; rw [if_pos hz]
    rw [eA, eB]
    unfold lgA lgB
    dsimp only
    have hrf := rf_len hz
    have S1 : ∀ w : World, (Op.stringOp .add t.rf ⟨#[45, 65]⟩).run Tryd.prog w = .ok (.string (t.rf ++ ⟨#[45, 65]⟩)) w := fun w => run_string_add w _ _ (by omega) (by decide)
    have S2 : ∀ w : World, (Op.stringOp .add t.rf ⟨#[45, 66]⟩).run Tryd.prog w = .ok (.string (t.rf ++ ⟨#[45, 66]⟩)) w := fun w => run_string_add w _ _ (by omega) (by decide)
    rw [hz] at RP ⊢
    clear eA eB hz hrf
    generalize (t.rf ++ ⟨#[45, 65]⟩ : ByteArray) = RA at *
    generalize (t.rf ++ ⟨#[45, 66]⟩ : ByteArray) = RC at *
    generalize reV t = V at *
    go_enter Tryd.func25, Tryd.ntmps25
    obtain ⟨_, c0, c1, c2, c3, c4, c5, c6, c7, c8, c9⟩ := HB.out
    go_wp2_with fail
    generalize ((w.alloc (Obj.cells #[.string t.rf, .string t.se, .string t.bu, .string t.sn, .int .i64 t.q, .int .i64 t.c, .int .i64 t.n, .int .i64 t.d, .int .i64 t.op, .int .i64 t.cl] 25)).alloc (Obj.cells #[.int .i64 0, .string ⟨#[]⟩, .string ⟨#[]⟩, .string ⟨#[]⟩, .int .i64 0, .int .i64 0, .int .i64 0, .int .i64 0, .int .i64 0, .bool false, .int .i64 0, .string ⟨#[]⟩, .string ⟨#[]⟩] 59)).alloc (Obj.cells #[.int .i64 0, .string ⟨#[]⟩, .string ⟨#[]⟩, .string ⟨#[]⟩, .int .i64 0, .int .i64 0, .int .i64 0, .int .i64 0, .int .i64 0, .bool false, .int .i64 0, .string ⟨#[]⟩, .string ⟨#[]⟩] 59) = X at *
    refine ((RP _).out).mono ?_
    rintro e x ⟨rfl, hb⟩
    have HB := hide (HB.out.keep hb)
    have HR := hide (HR.out.trans (hb.mono HR.out.size))
    have HX1 := hide ((hb.block _ (Array.getElem?_eq_some_iff.1 HX1.out).1).trans HX1.out)
    have HX2 := hide ((hb.block _ (Array.getElem?_eq_some_iff.1 HX2.out).1).trans HX2.out)
    clear hb c0 c1 c2 c3 c4 c5 c6 c7 c8 c9
    obtain ⟨_, c0, c1, c2, c3, c4, c5, c6, c7, c8, c9⟩ := HB.out
    have X0 := hide (Below.refl x.heap.size x)
    go_wp2_with fail
    have hs3 : (x.alloc (Obj.cells #[.int .i64 1, .string t.se, .string t.bu, .string t.sn, .int .i64 t.q, .int .i64 t.c, .int .i64 t.op, .int .i64 t.op, .int .i64 0, .bool false, .int .i64 0, .string RA, .string RA] 59)).heap.size = x.heap.size + 1 := Array.size_push _
    have h2a := two_allocs x (Obj.cells #[.int .i64 1, .string t.se, .string t.bu, .string t.sn, .int .i64 t.q, .int .i64 t.c, .int .i64 t.op, .int .i64 t.op, .int .i64 0, .bool false, .int .i64 0, .string RA, .string RA] 59) (Obj.cells #[.int .i64 1, .string t.se, .string t.bu, .string t.sn, .int .i64 t.q, .int .i64 t.c, .int .i64 t.op, .int .i64 t.op, .int .i64 0, .bool false, .int .i64 0, .string RA, .string RA] 59)
    have h1a := one_alloc (x.alloc (Obj.cells #[.int .i64 1, .string t.se, .string t.bu, .string t.sn, .int .i64 t.q, .int .i64 t.c, .int .i64 t.op, .int .i64 t.op, .int .i64 0, .bool false, .int .i64 0, .string RA, .string RA] 59)) (Obj.cells #[.int .i64 1, .string t.se, .string t.bu, .string t.sn, .int .i64 t.q, .int .i64 t.c, .int .i64 t.op, .int .i64 t.op, .int .i64 0, .bool false, .int .i64 0, .string RA, .string RA] 59)
    have HA := hide ((TB.new (⟨1, t.se, t.bu, t.sn, t.q, t.c, t.op, t.op, 0, false, 0, RA, RA⟩ : Tr) x 59).keep h1a)
    have hN := TB.new (⟨1, t.se, t.bu, t.sn, t.q, t.c, t.op, t.op, 0, false, 0, RA, RA⟩ : Tr) (x.alloc (Obj.cells #[.int .i64 1, .string t.se, .string t.bu, .string t.sn, .int .i64 t.q, .int .i64 t.c, .int .i64 t.op, .int .i64 t.op, .int .i64 0, .bool false, .int .i64 0, .string RA, .string RA] 59)) 59
    have hW := Array.getElem?_push_size (xs := (x.alloc (Obj.cells #[.int .i64 1, .string t.se, .string t.bu, .string t.sn, .int .i64 t.q, .int .i64 t.c, .int .i64 t.op, .int .i64 t.op, .int .i64 0, .bool false, .int .i64 0, .string RA, .string RA] 59)).heap) (x := Obj.cells #[.int .i64 1, .string t.se, .string t.bu, .string t.sn, .int .i64 t.q, .int .i64 t.c, .int .i64 t.op, .int .i64 t.op, .int .i64 0, .bool false, .int .i64 0, .string RA, .string RA] 59)
    rw [hs3] at hN hW
    have HN : Hid (TB (x.heap.size + 1) (⟨1, t.se, t.bu, t.sn, t.q, t.c, t.op, t.op, 0, false, 0, RA, RA⟩ : Tr) ((x.alloc (Obj.cells #[.int .i64 1, .string t.se, .string t.bu, .string t.sn, .int .i64 t.q, .int .i64 t.c, .int .i64 t.op, .int .i64 t.op, .int .i64 0, .bool false, .int .i64 0, .string RA, .string RA] 59)).alloc (Obj.cells #[.int .i64 1, .string t.se, .string t.bu, .string t.sn, .int .i64 t.q, .int .i64 t.c, .int .i64 t.op, .int .i64 t.op, .int .i64 0, .bool false, .int .i64 0, .string RA, .string RA] 59))) := hide hN
    have HW : Hid (((x.alloc (Obj.cells #[.int .i64 1, .string t.se, .string t.bu, .string t.sn, .int .i64 t.q, .int .i64 t.c, .int .i64 t.op, .int .i64 t.op, .int .i64 0, .bool false, .int .i64 0, .string RA, .string RA] 59)).alloc (Obj.cells #[.int .i64 1, .string t.se, .string t.bu, .string t.sn, .int .i64 t.q, .int .i64 t.c, .int .i64 t.op, .int .i64 t.op, .int .i64 0, .bool false, .int .i64 0, .string RA, .string RA] 59)).heap[x.heap.size + 1]? = some (.cells #[.int .i64 1, .string t.se, .string t.bu, .string t.sn, .int .i64 t.q, .int .i64 t.c, .int .i64 t.op, .int .i64 t.op, .int .i64 0, .bool false, .int .i64 0, .string RA, .string RA] 59 (0, 0))) := hide hW
    have HB := hide (HB.out.keep h2a)
    have HR := hide (HR.out.trans (h2a.mono HR.out.size))
    have L0 := hide (Array.getElem?_eq_some_iff.1 HX2.out).1
    have HX1 := hide ((h2a.block _ (Array.getElem?_eq_some_iff.1 HX1.out).1).trans HX1.out)
    have HX2 := hide ((h2a.block _ (Array.getElem?_eq_some_iff.1 HX2.out).1).trans HX2.out)
    clear h2a h1a hN hW hs3 X0 c0 c1 c2 c3 c4 c5 c6 c7 c8 c9
    have HBB := hide (show x.heap.size + 1 = x.heap.size + 1 from rfl)
    generalize (x.alloc (Obj.cells #[.int .i64 1, .string t.se, .string t.bu, .string t.sn, .int .i64 t.q, .int .i64 t.c, .int .i64 t.op, .int .i64 t.op, .int .i64 0, .bool false, .int .i64 0, .string RA, .string RA] 59)).alloc (Obj.cells #[.int .i64 1, .string t.se, .string t.bu, .string t.sn, .int .i64 t.q, .int .i64 t.c, .int .i64 t.op, .int .i64 t.op, .int .i64 0, .bool false, .int .i64 0, .string RA, .string RA] 59) = x2 at *
    obtain ⟨B, hB⟩ : ∃ B, B = x.heap.size + 1 := ⟨_, rfl⟩
    obtain ⟨A, hA⟩ : ∃ A, A = x.heap.size := ⟨_, rfl⟩
    rw [← hB] at HN HW HBB ⊢
    rw [← hA] at HA L0 hB ⊢
    clear hA HBB
    have LB := hide hB
    clear hB
    obtain ⟨_, c0, c1, c2, c3, c4, c5, c6, c7, c8, c9⟩ := HB.out
    obtain ⟨_, e0, e1, e2, e3, e4, e5, e6, e7, e8, e9, e10, e11, e12⟩ := HN.out
    dsimp only at e0 e1 e2 e3 e4 e5 e6 e7 e8 e9 e10 e11 e12
    have cf : ∀ j, x2.frozen? ⟨B, j, none⟩ = false := fun j => (row_cell HW.out (Below.refl _ _) j).2
    have ne3 : ¬ (w.heap.size = B) := by have := L0.out; have := LB.out; omega
    have ne4 : ¬ (B = w.heap.size) := by have := L0.out; have := LB.out; omega
    have LWB := hide (show w.heap.size < B by have := L0.out; have := LB.out; omega)
    have ST0 := hide (show ST B x2 x2.drew (cv t V RA RC false false false false false) from ⟨HN.out.lt, (Below.refl _ _).drew, cf, fun j hj => by
      have hj' : j = 0 ∨ j = 1 ∨ j = 2 ∨ j = 3 ∨ j = 4 ∨ j = 5 ∨ j = 6 ∨ j = 7 ∨ j = 8 ∨ j = 9 ∨ j = 10 ∨ j = 11 ∨ j = 12 := by omega
      rcases hj' with rfl | rfl | rfl | rfl | rfl | rfl | rfl | rfl | rfl | rfl | rfl | rfl | rfl
      · exact e0
      · exact e1
      · exact e2
      · exact e3
      · exact e4
      · exact e5
      · exact e6
      · exact e7
      · exact e8
      · exact e9
      · exact e10
      · exact e11
      · exact e12⟩)
    clear c0 c1 c2 c3 c4 c5 c6 c7 c8 c9 e0 e1 e2 e3 e4 e5 e6 e7 e8 e9 e10 e11 e12 cf ne3 ne4 HN HW
    have HR0 := HR
    clear HR
    refine wp_region_inv (I := fun f q wx => ∃ v42 v43 v44 v45 v46 v47 v48 v49 v50 v51 v52 v53 v54 v55 v56 v57 v58 v59 v60 : Value, q = { tmps := #[Value.agg #[.string t.rf, .string t.se, .string t.bu, .string t.sn, .int .i64 t.q, .int .i64 t.c, .int .i64 t.n, .int .i64 t.d, .int .i64 t.op, .int .i64 t.cl], Value.pointer (some ⟨w.heap.size, 0, none⟩), Value.pointer (some ⟨w.heap.size + 1, 0, none⟩), Value.pointer (some ⟨w.heap.size + 1 + 1, 0, none⟩), Value.int .i64 0, Value.int .i64 V, Value.int .i64 0, Value.pointer (some ⟨A, 0, none⟩), Value.pointer (some ⟨B, 0, none⟩), Value.tuple #[.int .i64 V, .int .i64 0], Value.agg #[.string t.rf, .string t.se, .string t.bu, .string t.sn, .int .i64 t.q, .int .i64 t.c, .int .i64 t.n, .int .i64 t.d, .int .i64 t.op, .int .i64 t.cl], Value.tuple #[.int .i64 V, .int .i64 0], Value.int .i64 V, Value.int .i64 0, Value.int .i64 0, Value.bool false, undef, undef, undef, Value.pointer (some ⟨w.heap.size, 1, none⟩), Value.string t.se, Value.pointer (some ⟨w.heap.size, 2, none⟩), Value.string t.bu, Value.pointer (some ⟨w.heap.size, 3, none⟩), Value.string t.sn, Value.pointer (some ⟨w.heap.size, 4, none⟩), Value.int .i64 t.q, Value.pointer (some ⟨w.heap.size, 5, none⟩), Value.int .i64 t.c, Value.pointer (some ⟨w.heap.size, 8, none⟩), Value.int .i64 t.op, Value.pointer (some ⟨w.heap.size, 8, none⟩), Value.int .i64 t.op, Value.pointer (some ⟨w.heap.size, 0, none⟩), Value.string t.rf, Value.string RA, Value.pointer (some ⟨w.heap.size, 0, none⟩), Value.string t.rf, Value.string RA, Value.agg #[.string RA, .string RA], Value.agg #[.int .i64 1, .string t.se, .string t.bu, .string t.sn, .int .i64 t.q, .int .i64 t.c, .int .i64 t.op, .int .i64 t.op, .int .i64 0, .bool false, .int .i64 0, .string RA, .string RA], Value.agg #[.int .i64 1, .string t.se, .string t.bu, .string t.sn, .int .i64 t.q, .int .i64 t.c, .int .i64 t.op, .int .i64 t.op, .int .i64 0, .bool false, .int .i64 0, .string RA, .string RA], v42, v43, v44, v45, v46, v47, v48, v49, v50, v51, v52, v53, v54, v55, v56, v57, v58, v59, v60, undef, undef], defers := [] } ∧ Hid (ST B x2 wx (cv t V RA RC (f 15) (f 17) (f 19) (f 21) (f 23))) ∧ Hid (f 0 = true → v42 = .pointer (some ⟨w.heap.size, 2, none⟩)) ∧ Hid (f 1 = true → v43 = .string t.bu) ∧ Hid (f 2 = true → v44 = .pointer (some ⟨w.heap.size, 1, none⟩)) ∧ Hid (f 3 = true → v45 = .string t.se) ∧ Hid (f 4 = true → v46 = .int .i64 V) ∧ Hid (f 5 = true → v47 = .pointer (some ⟨w.heap.size, 9, none⟩)) ∧ Hid (f 6 = true → v48 = .int .i64 t.cl) ∧ Hid (f 7 = true → v49 = .pointer (some ⟨w.heap.size, 0, none⟩)) ∧ Hid (f 8 = true → v50 = .string t.rf) ∧ Hid (f 9 = true → v51 = .string RC) ∧ Hid (f 10 = true → v52 = .pointer (some ⟨w.heap.size, 0, none⟩)) ∧ Hid (f 11 = true → v53 = .string t.rf) ∧ Hid (f 12 = true → v54 = .string RC) ∧ Hid (f 13 = true → v55 = .agg #[.string RC, .string RC]) ∧ Hid (f 14 = true → v56 = .pointer (some ⟨B, 1, none⟩)) ∧ Hid (f 15 = true → True) ∧ Hid (f 16 = true → v57 = .pointer (some ⟨B, 2, none⟩)) ∧ Hid (f 17 = true → True) ∧ Hid (f 18 = true → v58 = .pointer (some ⟨B, 5, none⟩)) ∧ Hid (f 19 = true → True) ∧ Hid (f 20 = true → v59 = .pointer (some ⟨B, 7, none⟩)) ∧ Hid (f 21 = true → True) ∧ Hid (f 22 = true → v60 = .pointer (some ⟨B, 11, none⟩)) ∧ Hid (f 23 = true → True)) (by kernel_rfl) (by kernel_rfl) ?_ ?_ ?_
    · exact ⟨_, _, _, _, _, _, _, _, _, _, _, _, _, _, _, _, _, _, _, rfl, hide (ST0.out), hide (fun h => Bool.noConfusion h), hide (fun h => Bool.noConfusion h), hide (fun h => Bool.noConfusion h), hide (fun h => Bool.noConfusion h), hide (fun h => Bool.noConfusion h), hide (fun h => Bool.noConfusion h), hide (fun h => Bool.noConfusion h), hide (fun h => Bool.noConfusion h), hide (fun h => Bool.noConfusion h), hide (fun h => Bool.noConfusion h), hide (fun h => Bool.noConfusion h), hide (fun h => Bool.noConfusion h), hide (fun h => Bool.noConfusion h), hide (fun h => Bool.noConfusion h), hide (fun h => Bool.noConfusion h), hide (fun h => Bool.noConfusion h), hide (fun h => Bool.noConfusion h), hide (fun h => Bool.noConfusion h), hide (fun h => Bool.noConfusion h), hide (fun h => Bool.noConfusion h), hide (fun h => Bool.noConfusion h), hide (fun h => Bool.noConfusion h), hide (fun h => Bool.noConfusion h), hide (fun h => Bool.noConfusion h)⟩
    · intro i hi f q wx hfi hB hI
      obtain ⟨v42, v43, v44, v45, v46, v47, v48, v49, v50, v51, v52, v53, v54, v55, v56, v57, v58, v59, v60, rfl, HR, F0, F1, F2, F3, F4, F5, F6, F7, F8, F9, F10, F11, F12, F13, F14, F15, F16, F17, F18, F19, F20, F21, F22, F23⟩ := hI
      have hin : i < 24 := hi
      have hic : i = 0 ∨ i = 1 ∨ i = 2 ∨ i = 3 ∨ i = 4 ∨ i = 5 ∨ i = 6 ∨ i = 7 ∨ i = 8 ∨ i = 9 ∨ i = 10 ∨ i = 11 ∨ i = 12 ∨ i = 13 ∨ i = 14 ∨ i = 15 ∨ i = 16 ∨ i = 17 ∨ i = 18 ∨ i = 19 ∨ i = 20 ∨ i = 21 ∨ i = 22 ∨ i = 23 := by omega
      clear hi hin
      rcases hic with rfl | rfl | rfl | rfl | rfl | rfl | rfl | rfl | rfl | rfl | rfl | rfl | rfl | rfl | rfl | rfl | rfl | rfl | rfl | rfl | rfl | rfl | rfl | rfl
      · skip
        refine wpOp_list' (o := _) rfl (fun K hK => ?_)
        go_wp2_with fail
        exact hK.out _ _ ⟨_, _, _, _, _, _, _, _, _, _, _, _, _, _, _, _, _, _, _, rfl, HR, hide (fun _ => rfl), F1, F2, F3, F4, F5, F6, F7, F8, F9, F10, F11, F12, F13, F14, F15, F16, F17, F18, F19, F20, F21, F22, F23⟩
      · skip
        have d0 := F0.out (hB.dep 0 (by kernel_rfl))
        rw [d0]
        clear d0
        refine wpOp_list' (o := _) rfl (fun K hK => ?_)
        have hc := (HR.out.bel.cell (p := ⟨w.heap.size, 2, none⟩) LWB.out).trans HB.out.c2
        go_wp2_with fail
        exact hK.out _ _ ⟨_, _, _, _, _, _, _, _, _, _, _, _, _, _, _, _, _, _, _, rfl, HR, hide (fun _ => rfl), hide (fun _ => rfl), F2, F3, F4, F5, F6, F7, F8, F9, F10, F11, F12, F13, F14, F15, F16, F17, F18, F19, F20, F21, F22, F23⟩
      · skip
        refine wpOp_list' (o := _) rfl (fun K hK => ?_)
        go_wp2_with fail
        exact hK.out _ _ ⟨_, _, _, _, _, _, _, _, _, _, _, _, _, _, _, _, _, _, _, rfl, HR, F0, F1, hide (fun _ => rfl), F3, F4, F5, F6, F7, F8, F9, F10, F11, F12, F13, F14, F15, F16, F17, F18, F19, F20, F21, F22, F23⟩
      · skip
        have d2 := F2.out (hB.dep 2 (by kernel_rfl))
        rw [d2]
        clear d2
        refine wpOp_list' (o := _) rfl (fun K hK => ?_)
        have hc := (HR.out.bel.cell (p := ⟨w.heap.size, 1, none⟩) LWB.out).trans HB.out.c1
        go_wp2_with fail
        exact hK.out _ _ ⟨_, _, _, _, _, _, _, _, _, _, _, _, _, _, _, _, _, _, _, rfl, HR, F0, F1, hide (fun _ => rfl), hide (fun _ => rfl), F4, F5, F6, F7, F8, F9, F10, F11, F12, F13, F14, F15, F16, F17, F18, F19, F20, F21, F22, F23⟩
      · skip
        refine wpOp_list' (o := _) rfl (fun K hK => ?_)
        go_wp2_with fail
        exact hK.out _ _ ⟨_, _, _, _, _, _, _, _, _, _, _, _, _, _, _, _, _, _, _, rfl, HR, F0, F1, F2, F3, hide (fun _ => rfl), F5, F6, F7, F8, F9, F10, F11, F12, F13, F14, F15, F16, F17, F18, F19, F20, F21, F22, F23⟩
      · skip
        refine wpOp_list' (o := _) rfl (fun K hK => ?_)
        go_wp2_with fail
        exact hK.out _ _ ⟨_, _, _, _, _, _, _, _, _, _, _, _, _, _, _, _, _, _, _, rfl, HR, F0, F1, F2, F3, F4, hide (fun _ => rfl), F6, F7, F8, F9, F10, F11, F12, F13, F14, F15, F16, F17, F18, F19, F20, F21, F22, F23⟩
      · skip
        have d5 := F5.out (hB.dep 5 (by kernel_rfl))
        rw [d5]
        clear d5
        refine wpOp_list' (o := _) rfl (fun K hK => ?_)
        have hc := (HR.out.bel.cell (p := ⟨w.heap.size, 9, none⟩) LWB.out).trans HB.out.c9
        go_wp2_with fail
        exact hK.out _ _ ⟨_, _, _, _, _, _, _, _, _, _, _, _, _, _, _, _, _, _, _, rfl, HR, F0, F1, F2, F3, F4, hide (fun _ => rfl), hide (fun _ => rfl), F7, F8, F9, F10, F11, F12, F13, F14, F15, F16, F17, F18, F19, F20, F21, F22, F23⟩
      · skip
        refine wpOp_list' (o := _) rfl (fun K hK => ?_)
        go_wp2_with fail
        exact hK.out _ _ ⟨_, _, _, _, _, _, _, _, _, _, _, _, _, _, _, _, _, _, _, rfl, HR, F0, F1, F2, F3, F4, F5, F6, hide (fun _ => rfl), F8, F9, F10, F11, F12, F13, F14, F15, F16, F17, F18, F19, F20, F21, F22, F23⟩
      · skip
        have d7 := F7.out (hB.dep 7 (by kernel_rfl))
        rw [d7]
        clear d7
        refine wpOp_list' (o := _) rfl (fun K hK => ?_)
        have hc := (HR.out.bel.cell (p := ⟨w.heap.size, 0, none⟩) LWB.out).trans HB.out.c0
        go_wp2_with fail
        exact hK.out _ _ ⟨_, _, _, _, _, _, _, _, _, _, _, _, _, _, _, _, _, _, _, rfl, HR, F0, F1, F2, F3, F4, F5, F6, hide (fun _ => rfl), hide (fun _ => rfl), F9, F10, F11, F12, F13, F14, F15, F16, F17, F18, F19, F20, F21, F22, F23⟩
      · skip
        have d8 := F8.out (hB.dep 8 (by kernel_rfl))
        rw [d8]
        clear d8
        refine wpOp_list' (o := _) rfl (fun K hK => ?_)
        go_wp2_with fail
        exact hK.out _ _ ⟨_, _, _, _, _, _, _, _, _, _, _, _, _, _, _, _, _, _, _, rfl, HR, F0, F1, F2, F3, F4, F5, F6, F7, hide (fun _ => rfl), hide (fun _ => rfl), F10, F11, F12, F13, F14, F15, F16, F17, F18, F19, F20, F21, F22, F23⟩
      · skip
        refine wpOp_list' (o := _) rfl (fun K hK => ?_)
        go_wp2_with fail
        exact hK.out _ _ ⟨_, _, _, _, _, _, _, _, _, _, _, _, _, _, _, _, _, _, _, rfl, HR, F0, F1, F2, F3, F4, F5, F6, F7, F8, F9, hide (fun _ => rfl), F11, F12, F13, F14, F15, F16, F17, F18, F19, F20, F21, F22, F23⟩
      · skip
        have d10 := F10.out (hB.dep 10 (by kernel_rfl))
        rw [d10]
        clear d10
        refine wpOp_list' (o := _) rfl (fun K hK => ?_)
        have hc := (HR.out.bel.cell (p := ⟨w.heap.size, 0, none⟩) LWB.out).trans HB.out.c0
        go_wp2_with fail
        exact hK.out _ _ ⟨_, _, _, _, _, _, _, _, _, _, _, _, _, _, _, _, _, _, _, rfl, HR, F0, F1, F2, F3, F4, F5, F6, F7, F8, F9, hide (fun _ => rfl), hide (fun _ => rfl), F12, F13, F14, F15, F16, F17, F18, F19, F20, F21, F22, F23⟩
      · skip
        have d11 := F11.out (hB.dep 11 (by kernel_rfl))
        rw [d11]
        clear d11
        refine wpOp_list' (o := _) rfl (fun K hK => ?_)
        go_wp2_with fail
        exact hK.out _ _ ⟨_, _, _, _, _, _, _, _, _, _, _, _, _, _, _, _, _, _, _, rfl, HR, F0, F1, F2, F3, F4, F5, F6, F7, F8, F9, F10, hide (fun _ => rfl), hide (fun _ => rfl), F13, F14, F15, F16, F17, F18, F19, F20, F21, F22, F23⟩
      · skip
        have d9 := F9.out (hB.dep 9 (by kernel_rfl))
        rw [d9]
        clear d9
        have d12 := F12.out (hB.dep 12 (by kernel_rfl))
        rw [d12]
        clear d12
        refine wpOp_list' (o := _) rfl (fun K hK => ?_)
        go_wp2_with fail
        exact hK.out _ _ ⟨_, _, _, _, _, _, _, _, _, _, _, _, _, _, _, _, _, _, _, rfl, HR, F0, F1, F2, F3, F4, F5, F6, F7, F8, hide (fun _ => rfl), F10, F11, hide (fun _ => rfl), hide (fun _ => rfl), F14, F15, F16, F17, F18, F19, F20, F21, F22, F23⟩
      · skip
        refine wpOp_list' (o := _) rfl (fun K hK => ?_)
        go_wp2_with fail
        exact hK.out _ _ ⟨_, _, _, _, _, _, _, _, _, _, _, _, _, _, _, _, _, _, _, rfl, HR, F0, F1, F2, F3, F4, F5, F6, F7, F8, F9, F10, F11, F12, F13, hide (fun _ => rfl), F15, F16, F17, F18, F19, F20, F21, F22, F23⟩
      · skip
        have d1 := F1.out (hB.dep 1 (by kernel_rfl))
        rw [d1]
        clear d1
        have d14 := F14.out (hB.dep 14 (by kernel_rfl))
        rw [d14]
        clear d14
        refine wpOp_list' (o := _) rfl (fun K hK => ?_)
        have hz1 := HR.out.c 1 (by decide)
        have hzf := HR.out.fr
        go_wp2_with fail
        have HR := hide (show ST B x2 (wx.setCell ⟨B, 1, none⟩ (.string t.bu)) (cv t V RA RC true (f 17) (f 19) (f 21) (f 23)) from HR.out.set 1 (by decide) rfl (fun j hj => by simp [cv, hj]))
        exact hK.out _ _ ⟨_, _, _, _, _, _, _, _, _, _, _, _, _, _, _, _, _, _, _, rfl, HR, F0, hide (fun _ => rfl), F2, F3, F4, F5, F6, F7, F8, F9, F10, F11, F12, F13, hide (fun _ => rfl), hide (fun _ => trivial), F16, F17, F18, F19, F20, F21, F22, F23⟩
      · skip
        refine wpOp_list' (o := _) rfl (fun K hK => ?_)
        go_wp2_with fail
        exact hK.out _ _ ⟨_, _, _, _, _, _, _, _, _, _, _, _, _, _, _, _, _, _, _, rfl, HR, F0, F1, F2, F3, F4, F5, F6, F7, F8, F9, F10, F11, F12, F13, F14, F15, hide (fun _ => rfl), F17, F18, F19, F20, F21, F22, F23⟩
      · skip
        have d3 := F3.out (hB.dep 3 (by kernel_rfl))
        rw [d3]
        clear d3
        have d16 := F16.out (hB.dep 16 (by kernel_rfl))
        rw [d16]
        clear d16
        refine wpOp_list' (o := _) rfl (fun K hK => ?_)
        have hz2 := HR.out.c 2 (by decide)
        have hzf := HR.out.fr
        go_wp2_with fail
        have HR := hide (show ST B x2 (wx.setCell ⟨B, 2, none⟩ (.string t.se)) (cv t V RA RC (f 15) true (f 19) (f 21) (f 23)) from HR.out.set 2 (by decide) rfl (fun j hj => by simp [cv, hj]))
        exact hK.out _ _ ⟨_, _, _, _, _, _, _, _, _, _, _, _, _, _, _, _, _, _, _, rfl, HR, F0, F1, F2, hide (fun _ => rfl), F4, F5, F6, F7, F8, F9, F10, F11, F12, F13, F14, F15, hide (fun _ => rfl), hide (fun _ => trivial), F18, F19, F20, F21, F22, F23⟩
      · skip
        refine wpOp_list' (o := _) rfl (fun K hK => ?_)
        go_wp2_with fail
        exact hK.out _ _ ⟨_, _, _, _, _, _, _, _, _, _, _, _, _, _, _, _, _, _, _, rfl, HR, F0, F1, F2, F3, F4, F5, F6, F7, F8, F9, F10, F11, F12, F13, F14, F15, F16, F17, hide (fun _ => rfl), F19, F20, F21, F22, F23⟩
      · skip
        have d4 := F4.out (hB.dep 4 (by kernel_rfl))
        rw [d4]
        clear d4
        have d18 := F18.out (hB.dep 18 (by kernel_rfl))
        rw [d18]
        clear d18
        refine wpOp_list' (o := _) rfl (fun K hK => ?_)
        have hz5 := HR.out.c 5 (by decide)
        have hzf := HR.out.fr
        go_wp2_with fail
        have HR := hide (show ST B x2 (wx.setCell ⟨B, 5, none⟩ (.int .i64 V)) (cv t V RA RC (f 15) (f 17) true (f 21) (f 23)) from HR.out.set 5 (by decide) rfl (fun j hj => by simp [cv, hj]))
        exact hK.out _ _ ⟨_, _, _, _, _, _, _, _, _, _, _, _, _, _, _, _, _, _, _, rfl, HR, F0, F1, F2, F3, hide (fun _ => rfl), F5, F6, F7, F8, F9, F10, F11, F12, F13, F14, F15, F16, F17, hide (fun _ => rfl), hide (fun _ => trivial), F20, F21, F22, F23⟩
      · skip
        refine wpOp_list' (o := _) rfl (fun K hK => ?_)
        go_wp2_with fail
        exact hK.out _ _ ⟨_, _, _, _, _, _, _, _, _, _, _, _, _, _, _, _, _, _, _, rfl, HR, F0, F1, F2, F3, F4, F5, F6, F7, F8, F9, F10, F11, F12, F13, F14, F15, F16, F17, F18, F19, hide (fun _ => rfl), F21, F22, F23⟩
      · skip
        have d6 := F6.out (hB.dep 6 (by kernel_rfl))
        rw [d6]
        clear d6
        have d20 := F20.out (hB.dep 20 (by kernel_rfl))
        rw [d20]
        clear d20
        refine wpOp_list' (o := _) rfl (fun K hK => ?_)
        have hz7 := HR.out.c 7 (by decide)
        have hzf := HR.out.fr
        go_wp2_with fail
        have HR := hide (show ST B x2 (wx.setCell ⟨B, 7, none⟩ (.int .i64 t.cl)) (cv t V RA RC (f 15) (f 17) (f 19) true (f 23)) from HR.out.set 7 (by decide) rfl (fun j hj => by simp [cv, hj]))
        exact hK.out _ _ ⟨_, _, _, _, _, _, _, _, _, _, _, _, _, _, _, _, _, _, _, rfl, HR, F0, F1, F2, F3, F4, F5, hide (fun _ => rfl), F7, F8, F9, F10, F11, F12, F13, F14, F15, F16, F17, F18, F19, hide (fun _ => rfl), hide (fun _ => trivial), F22, F23⟩
      · skip
        refine wpOp_list' (o := _) rfl (fun K hK => ?_)
        go_wp2_with fail
        exact hK.out _ _ ⟨_, _, _, _, _, _, _, _, _, _, _, _, _, _, _, _, _, _, _, rfl, HR, F0, F1, F2, F3, F4, F5, F6, F7, F8, F9, F10, F11, F12, F13, F14, F15, F16, F17, F18, F19, F20, F21, hide (fun _ => rfl), F23⟩
      · skip
        have d13 := F13.out (hB.dep 13 (by kernel_rfl))
        rw [d13]
        clear d13
        have d22 := F22.out (hB.dep 22 (by kernel_rfl))
        rw [d22]
        clear d22
        refine wpOp_list' (o := _) rfl (fun K hK => ?_)
        have hz11 := HR.out.c 11 (by decide)
        have hz12 := HR.out.c 12 (by decide)
        have hzf := HR.out.fr
        go_wp2_with fail
        have HR := hide (show ST B x2 ((wx.setCell ⟨B, 11, none⟩ (.string RC)).setCell ⟨B, 12, none⟩ (.string RC)) (cv t V RA RC (f 15) (f 17) (f 19) (f 21) true) from (HR.out.set (g' := fun j => if j = 11 then .string RC else cv t V RA RC (f 15) (f 17) (f 19) (f 21) (f 23) j) 11 (by decide) rfl (fun j hj => by simp [hj])).set 12 (by decide) rfl (fun j hj => by by_cases h : j = 11 <;> simp [cv, hj, h]))
        exact hK.out _ _ ⟨_, _, _, _, _, _, _, _, _, _, _, _, _, _, _, _, _, _, _, rfl, HR, F0, F1, F2, F3, F4, F5, F6, F7, F8, F9, F10, F11, F12, hide (fun _ => rfl), F14, F15, F16, F17, F18, F19, F20, F21, hide (fun _ => rfl), hide (fun _ => trivial)⟩
    · intro f q wx hall hI
      obtain ⟨v42, v43, v44, v45, v46, v47, v48, v49, v50, v51, v52, v53, v54, v55, v56, v57, v58, v59, v60, rfl, HR, F0, F1, F2, F3, F4, F5, F6, F7, F8, F9, F10, F11, F12, F13, F14, F15, F16, F17, F18, F19, F20, F21, F22, F23⟩ := hI
      have HS := HR
      rw [hall 15 (by decide), hall 17 (by decide), hall 19 (by decide), hall 21 (by decide), hall 23 (by decide)] at HS
      rw [F0.out (hall 0 (by decide)), F1.out (hall 1 (by decide)), F2.out (hall 2 (by decide)), F3.out (hall 3 (by decide)), F4.out (hall 4 (by decide)), F5.out (hall 5 (by decide)), F6.out (hall 6 (by decide)), F7.out (hall 7 (by decide)), F8.out (hall 8 (by decide)), F9.out (hall 9 (by decide)), F10.out (hall 10 (by decide)), F11.out (hall 11 (by decide)), F12.out (hall 12 (by decide)), F13.out (hall 13 (by decide)), F14.out (hall 14 (by decide)), F16.out (hall 16 (by decide)), F18.out (hall 18 (by decide)), F20.out (hall 20 (by decide)), F22.out (hall 22 (by decide))]
      clear HR hall F0 F1 F2 F3 F4 F5 F6 F7 F8 F9 F10 F11 F12 F13 F14 F15 F16 F17 F18 F19 F20 F21 F22 F23
      have HN4 := hide (show TB B (⟨1, t.bu, t.se, t.sn, t.q, V, t.op, t.cl, 0, false, 0, RC, RC⟩ : Tr) wx from ⟨HS.out.lt, HS.out.c 0 (by decide), HS.out.c 1 (by decide), HS.out.c 2 (by decide), HS.out.c 3 (by decide), HS.out.c 4 (by decide), HS.out.c 5 (by decide), HS.out.c 6 (by decide), HS.out.c 7 (by decide), HS.out.c 8 (by decide), HS.out.c 9 (by decide), HS.out.c 10 (by decide), HS.out.c 11 (by decide), HS.out.c 12 (by decide)⟩)
      have HR4 := hide (HR0.out.trans (HS.out.bel.mono (by have := LWB.out; omega)))
      have HA4 := hide (HA.out.keepB HS.out.bel (by have := LB.out; omega))
      have HY1 := hide ((HS.out.bel.block _ (by have := LB.out; have := L0.out; omega)).trans HX1.out)
      have HY2 := hide ((HS.out.bel.block _ (by have := LB.out; have := L0.out; omega)).trans HX2.out)
      clear HS HX1 HX2 HA HB HR0 ST0
      go_wp2_with fail
      have ne5 : ¬ (w.heap.size + 1 = B) := by have := L0.out; have := LB.out; omega
      have ne6 : ¬ (B = w.heap.size + 1) := by have := L0.out; have := LB.out; omega
      have ne7 : ¬ (w.heap.size + 1 + 1 = B) := by have := L0.out; have := LB.out; omega
      have ne8 : ¬ (B = w.heap.size + 1 + 1) := by have := L0.out; have := LB.out; omega
      have na5 : ¬ (w.heap.size + 1 = A) := by have := L0.out; omega
      have na6 : ¬ (A = w.heap.size + 1) := by have := L0.out; omega
      have na7 : ¬ (w.heap.size + 1 + 1 = A) := by have := L0.out; omega
      have na8 : ¬ (A = w.heap.size + 1 + 1) := by have := L0.out; omega
      obtain ⟨_, e0, e1, e2, e3, e4, e5, e6, e7, e8, e9, e10, e11, e12⟩ := HN4.out
      obtain ⟨_, f0, f1, f2, f3, f4, f5, f6, f7, f8, f9, f10, f11, f12⟩ := HA4.out
      dsimp only at e0 e1 e2 e3 e4 e5 e6 e7 e8 e9 e10 e11 e12 f0 f1 f2 f3 f4 f5 f6 f7 f8 f9 f10 f11 f12
      have y0 : wx.cell? ⟨w.heap.size + 1, 0, none⟩ = some (.int .i64 0) := (row_cell HY1.out (Below.refl _ _) 0).1
      have y1 : wx.cell? ⟨w.heap.size + 1, 1, none⟩ = some (.string ⟨#[]⟩) := (row_cell HY1.out (Below.refl _ _) 1).1
      have y2 : wx.cell? ⟨w.heap.size + 1, 2, none⟩ = some (.string ⟨#[]⟩) := (row_cell HY1.out (Below.refl _ _) 2).1
      have y3 : wx.cell? ⟨w.heap.size + 1, 3, none⟩ = some (.string ⟨#[]⟩) := (row_cell HY1.out (Below.refl _ _) 3).1
      have y4 : wx.cell? ⟨w.heap.size + 1, 4, none⟩ = some (.int .i64 0) := (row_cell HY1.out (Below.refl _ _) 4).1
      have y5 : wx.cell? ⟨w.heap.size + 1, 5, none⟩ = some (.int .i64 0) := (row_cell HY1.out (Below.refl _ _) 5).1
      have y6 : wx.cell? ⟨w.heap.size + 1, 6, none⟩ = some (.int .i64 0) := (row_cell HY1.out (Below.refl _ _) 6).1
      have y7 : wx.cell? ⟨w.heap.size + 1, 7, none⟩ = some (.int .i64 0) := (row_cell HY1.out (Below.refl _ _) 7).1
      have y8 : wx.cell? ⟨w.heap.size + 1, 8, none⟩ = some (.int .i64 0) := (row_cell HY1.out (Below.refl _ _) 8).1
      have y9 : wx.cell? ⟨w.heap.size + 1, 9, none⟩ = some (.bool false) := (row_cell HY1.out (Below.refl _ _) 9).1
      have y10 : wx.cell? ⟨w.heap.size + 1, 10, none⟩ = some (.int .i64 0) := (row_cell HY1.out (Below.refl _ _) 10).1
      have y11 : wx.cell? ⟨w.heap.size + 1, 11, none⟩ = some (.string ⟨#[]⟩) := (row_cell HY1.out (Below.refl _ _) 11).1
      have y12 : wx.cell? ⟨w.heap.size + 1, 12, none⟩ = some (.string ⟨#[]⟩) := (row_cell HY1.out (Below.refl _ _) 12).1
      have yf : ∀ j, wx.frozen? ⟨w.heap.size + 1, j, none⟩ = false := fun j => (row_cell HY1.out (Below.refl _ _) j).2
      have z0 : wx.cell? ⟨w.heap.size + 1 + 1, 0, none⟩ = some (.int .i64 0) := (row_cell HY2.out (Below.refl _ _) 0).1
      have z1 : wx.cell? ⟨w.heap.size + 1 + 1, 1, none⟩ = some (.string ⟨#[]⟩) := (row_cell HY2.out (Below.refl _ _) 1).1
      have z2 : wx.cell? ⟨w.heap.size + 1 + 1, 2, none⟩ = some (.string ⟨#[]⟩) := (row_cell HY2.out (Below.refl _ _) 2).1
      have z3 : wx.cell? ⟨w.heap.size + 1 + 1, 3, none⟩ = some (.string ⟨#[]⟩) := (row_cell HY2.out (Below.refl _ _) 3).1
      have z4 : wx.cell? ⟨w.heap.size + 1 + 1, 4, none⟩ = some (.int .i64 0) := (row_cell HY2.out (Below.refl _ _) 4).1
      have z5 : wx.cell? ⟨w.heap.size + 1 + 1, 5, none⟩ = some (.int .i64 0) := (row_cell HY2.out (Below.refl _ _) 5).1
      have z6 : wx.cell? ⟨w.heap.size + 1 + 1, 6, none⟩ = some (.int .i64 0) := (row_cell HY2.out (Below.refl _ _) 6).1
      have z7 : wx.cell? ⟨w.heap.size + 1 + 1, 7, none⟩ = some (.int .i64 0) := (row_cell HY2.out (Below.refl _ _) 7).1
      have z8 : wx.cell? ⟨w.heap.size + 1 + 1, 8, none⟩ = some (.int .i64 0) := (row_cell HY2.out (Below.refl _ _) 8).1
      have z9 : wx.cell? ⟨w.heap.size + 1 + 1, 9, none⟩ = some (.bool false) := (row_cell HY2.out (Below.refl _ _) 9).1
      have z10 : wx.cell? ⟨w.heap.size + 1 + 1, 10, none⟩ = some (.int .i64 0) := (row_cell HY2.out (Below.refl _ _) 10).1
      have z11 : wx.cell? ⟨w.heap.size + 1 + 1, 11, none⟩ = some (.string ⟨#[]⟩) := (row_cell HY2.out (Below.refl _ _) 11).1
      have z12 : wx.cell? ⟨w.heap.size + 1 + 1, 12, none⟩ = some (.string ⟨#[]⟩) := (row_cell HY2.out (Below.refl _ _) 12).1
      have zf : ∀ j, wx.frozen? ⟨w.heap.size + 1 + 1, j, none⟩ = false := fun j => (row_cell HY2.out (Below.refl _ _) j).2
      go_region
      go_wp2_with fail
      exact bodyPost_ret (v := .tuple #[.agg #[.int .i64 1, .string t.se, .string t.bu, .string t.sn, .int .i64 t.q, .int .i64 t.c, .int .i64 t.op, .int .i64 t.op, .int .i64 0, .bool false, .int .i64 0, .string RA, .string RA], .agg #[.int .i64 1, .string t.bu, .string t.se, .string t.sn, .int .i64 t.q, .int .i64 V, .int .i64 t.op, .int .i64 t.cl, .int .i64 0, .bool false, .int .i64 0, .string RC, .string RC], .int .i64 0]) (by simp [results, Tryd.results25, go_sem, y0, z0, y1, z1, y2, z2, y3, z3, y4, z4, y5, z5, y6, z6, y7, z7, y8, z8, y9, z9, y10, z10, y11, z11, y12, z12, yf, zf]) rfl ⟨rfl, (((((((((((((((((((((((((((HR4.out.setCell (p := ⟨w.heap.size + 1, 0, none⟩) (show w.heap.size ≤ w.heap.size + 1 by omega) _).setCell (p := ⟨w.heap.size + 1, 1, none⟩) (show w.heap.size ≤ w.heap.size + 1 by omega) _).setCell (p := ⟨w.heap.size + 1, 2, none⟩) (show w.heap.size ≤ w.heap.size + 1 by omega) _).setCell (p := ⟨w.heap.size + 1, 3, none⟩) (show w.heap.size ≤ w.heap.size + 1 by omega) _).setCell (p := ⟨w.heap.size + 1, 4, none⟩) (show w.heap.size ≤ w.heap.size + 1 by omega) _).setCell (p := ⟨w.heap.size + 1, 5, none⟩) (show w.heap.size ≤ w.heap.size + 1 by omega) _).setCell (p := ⟨w.heap.size + 1, 6, none⟩) (show w.heap.size ≤ w.heap.size + 1 by omega) _).setCell (p := ⟨w.heap.size + 1, 7, none⟩) (show w.heap.size ≤ w.heap.size + 1 by omega) _).setCell (p := ⟨w.heap.size + 1, 8, none⟩) (show w.heap.size ≤ w.heap.size + 1 by omega) _).setCell (p := ⟨w.heap.size + 1, 9, none⟩) (show w.heap.size ≤ w.heap.size + 1 by omega) _).setCell (p := ⟨w.heap.size + 1, 10, none⟩) (show w.heap.size ≤ w.heap.size + 1 by omega) _).setCell (p := ⟨w.heap.size + 1, 11, none⟩) (show w.heap.size ≤ w.heap.size + 1 by omega) _).setCell (p := ⟨w.heap.size + 1, 12, none⟩) (show w.heap.size ≤ w.heap.size + 1 by omega) _).setCell (p := ⟨w.heap.size + 1 + 1, 0, none⟩) (show w.heap.size ≤ w.heap.size + 1 + 1 by omega) _).setCell (p := ⟨w.heap.size + 1 + 1, 1, none⟩) (show w.heap.size ≤ w.heap.size + 1 + 1 by omega) _).setCell (p := ⟨w.heap.size + 1 + 1, 2, none⟩) (show w.heap.size ≤ w.heap.size + 1 + 1 by omega) _).setCell (p := ⟨w.heap.size + 1 + 1, 3, none⟩) (show w.heap.size ≤ w.heap.size + 1 + 1 by omega) _).setCell (p := ⟨w.heap.size + 1 + 1, 4, none⟩) (show w.heap.size ≤ w.heap.size + 1 + 1 by omega) _).setCell (p := ⟨w.heap.size + 1 + 1, 5, none⟩) (show w.heap.size ≤ w.heap.size + 1 + 1 by omega) _).setCell (p := ⟨w.heap.size + 1 + 1, 6, none⟩) (show w.heap.size ≤ w.heap.size + 1 + 1 by omega) _).setCell (p := ⟨w.heap.size + 1 + 1, 7, none⟩) (show w.heap.size ≤ w.heap.size + 1 + 1 by omega) _).setCell (p := ⟨w.heap.size + 1 + 1, 8, none⟩) (show w.heap.size ≤ w.heap.size + 1 + 1 by omega) _).setCell (p := ⟨w.heap.size + 1 + 1, 9, none⟩) (show w.heap.size ≤ w.heap.size + 1 + 1 by omega) _).setCell (p := ⟨w.heap.size + 1 + 1, 10, none⟩) (show w.heap.size ≤ w.heap.size + 1 + 1 by omega) _).setCell (p := ⟨w.heap.size + 1 + 1, 11, none⟩) (show w.heap.size ≤ w.heap.size + 1 + 1 by omega) _).setCell (p := ⟨w.heap.size + 1 + 1, 12, none⟩) (show w.heap.size ≤ w.heap.size + 1 + 1 by omega) _)).drew⟩
  · obtain eA : leA t = zT := by unfold leA; rw [if_neg hz]
    obtain eB : leB t = zT := by unfold leB; rw [if_neg hz]
    rw [eA, eB]
    unfold zT
    dsimp only
    have hz' : (agE t != 0) = true := by simpa using hz
    generalize agE t = E at *
    clear eA eB hz
    go_enter Tryd.func25, Tryd.ntmps25
    obtain ⟨_, c0, c1, c2, c3, c4, c5, c6, c7, c8, c9⟩ := HB.out
    go_wp2_with fail
    generalize ((w.alloc (Obj.cells #[.string t.rf, .string t.se, .string t.bu, .string t.sn, .int .i64 t.q, .int .i64 t.c, .int .i64 t.n, .int .i64 t.d, .int .i64 t.op, .int .i64 t.cl] 25)).alloc (Obj.cells #[.int .i64 0, .string ⟨#[]⟩, .string ⟨#[]⟩, .string ⟨#[]⟩, .int .i64 0, .int .i64 0, .int .i64 0, .int .i64 0, .int .i64 0, .bool false, .int .i64 0, .string ⟨#[]⟩, .string ⟨#[]⟩] 59)).alloc (Obj.cells #[.int .i64 0, .string ⟨#[]⟩, .string ⟨#[]⟩, .string ⟨#[]⟩, .int .i64 0, .int .i64 0, .int .i64 0, .int .i64 0, .int .i64 0, .bool false, .int .i64 0, .string ⟨#[]⟩, .string ⟨#[]⟩] 59) = X at *
    refine ((RP _).out).mono ?_
    rintro e x ⟨rfl, hb⟩
    have HB := hide (HB.out.keep hb)
    have HR := hide (HR.out.trans (hb.mono HR.out.size))
    have HX1 := hide ((hb.block _ (Array.getElem?_eq_some_iff.1 HX1.out).1).trans HX1.out)
    have HX2 := hide ((hb.block _ (Array.getElem?_eq_some_iff.1 HX2.out).1).trans HX2.out)
    clear hb c0 c1 c2 c3 c4 c5 c6 c7 c8 c9
    obtain ⟨_, c0, c1, c2, c3, c4, c5, c6, c7, c8, c9⟩ := HB.out
    have y0 : x.cell? ⟨w.heap.size + 1, 0, none⟩ = some (.int .i64 0) := (row_cell HX1.out (Below.refl _ _) 0).1
    have y1 : x.cell? ⟨w.heap.size + 1, 1, none⟩ = some (.string ⟨#[]⟩) := (row_cell HX1.out (Below.refl _ _) 1).1
    have y2 : x.cell? ⟨w.heap.size + 1, 2, none⟩ = some (.string ⟨#[]⟩) := (row_cell HX1.out (Below.refl _ _) 2).1
    have y3 : x.cell? ⟨w.heap.size + 1, 3, none⟩ = some (.string ⟨#[]⟩) := (row_cell HX1.out (Below.refl _ _) 3).1
    have y4 : x.cell? ⟨w.heap.size + 1, 4, none⟩ = some (.int .i64 0) := (row_cell HX1.out (Below.refl _ _) 4).1
    have y5 : x.cell? ⟨w.heap.size + 1, 5, none⟩ = some (.int .i64 0) := (row_cell HX1.out (Below.refl _ _) 5).1
    have y6 : x.cell? ⟨w.heap.size + 1, 6, none⟩ = some (.int .i64 0) := (row_cell HX1.out (Below.refl _ _) 6).1
    have y7 : x.cell? ⟨w.heap.size + 1, 7, none⟩ = some (.int .i64 0) := (row_cell HX1.out (Below.refl _ _) 7).1
    have y8 : x.cell? ⟨w.heap.size + 1, 8, none⟩ = some (.int .i64 0) := (row_cell HX1.out (Below.refl _ _) 8).1
    have y9 : x.cell? ⟨w.heap.size + 1, 9, none⟩ = some (.bool false) := (row_cell HX1.out (Below.refl _ _) 9).1
    have y10 : x.cell? ⟨w.heap.size + 1, 10, none⟩ = some (.int .i64 0) := (row_cell HX1.out (Below.refl _ _) 10).1
    have y11 : x.cell? ⟨w.heap.size + 1, 11, none⟩ = some (.string ⟨#[]⟩) := (row_cell HX1.out (Below.refl _ _) 11).1
    have y12 : x.cell? ⟨w.heap.size + 1, 12, none⟩ = some (.string ⟨#[]⟩) := (row_cell HX1.out (Below.refl _ _) 12).1
    have yf : ∀ j, x.frozen? ⟨w.heap.size + 1, j, none⟩ = false := fun j => (row_cell HX1.out (Below.refl _ _) j).2
    have z0 : x.cell? ⟨w.heap.size + 1 + 1, 0, none⟩ = some (.int .i64 0) := (row_cell HX2.out (Below.refl _ _) 0).1
    have z1 : x.cell? ⟨w.heap.size + 1 + 1, 1, none⟩ = some (.string ⟨#[]⟩) := (row_cell HX2.out (Below.refl _ _) 1).1
    have z2 : x.cell? ⟨w.heap.size + 1 + 1, 2, none⟩ = some (.string ⟨#[]⟩) := (row_cell HX2.out (Below.refl _ _) 2).1
    have z3 : x.cell? ⟨w.heap.size + 1 + 1, 3, none⟩ = some (.string ⟨#[]⟩) := (row_cell HX2.out (Below.refl _ _) 3).1
    have z4 : x.cell? ⟨w.heap.size + 1 + 1, 4, none⟩ = some (.int .i64 0) := (row_cell HX2.out (Below.refl _ _) 4).1
    have z5 : x.cell? ⟨w.heap.size + 1 + 1, 5, none⟩ = some (.int .i64 0) := (row_cell HX2.out (Below.refl _ _) 5).1
    have z6 : x.cell? ⟨w.heap.size + 1 + 1, 6, none⟩ = some (.int .i64 0) := (row_cell HX2.out (Below.refl _ _) 6).1
    have z7 : x.cell? ⟨w.heap.size + 1 + 1, 7, none⟩ = some (.int .i64 0) := (row_cell HX2.out (Below.refl _ _) 7).1
    have z8 : x.cell? ⟨w.heap.size + 1 + 1, 8, none⟩ = some (.int .i64 0) := (row_cell HX2.out (Below.refl _ _) 8).1
    have z9 : x.cell? ⟨w.heap.size + 1 + 1, 9, none⟩ = some (.bool false) := (row_cell HX2.out (Below.refl _ _) 9).1
    have z10 : x.cell? ⟨w.heap.size + 1 + 1, 10, none⟩ = some (.int .i64 0) := (row_cell HX2.out (Below.refl _ _) 10).1
    have z11 : x.cell? ⟨w.heap.size + 1 + 1, 11, none⟩ = some (.string ⟨#[]⟩) := (row_cell HX2.out (Below.refl _ _) 11).1
    have z12 : x.cell? ⟨w.heap.size + 1 + 1, 12, none⟩ = some (.string ⟨#[]⟩) := (row_cell HX2.out (Below.refl _ _) 12).1
    have zf : ∀ j, x.frozen? ⟨w.heap.size + 1 + 1, j, none⟩ = false := fun j => (row_cell HX2.out (Below.refl _ _) j).2
    go_wp2_with fail
    exact bodyPost_ret (v := .tuple #[.agg #[.int .i64 0, .string ⟨#[]⟩, .string ⟨#[]⟩, .string ⟨#[]⟩, .int .i64 0, .int .i64 0, .int .i64 0, .int .i64 0, .int .i64 0, .bool false, .int .i64 0, .string ⟨#[]⟩, .string ⟨#[]⟩], .agg #[.int .i64 0, .string ⟨#[]⟩, .string ⟨#[]⟩, .string ⟨#[]⟩, .int .i64 0, .int .i64 0, .int .i64 0, .int .i64 0, .int .i64 0, .bool false, .int .i64 0, .string ⟨#[]⟩, .string ⟨#[]⟩], .int .i64 E]) (by simp [results, Tryd.results25, go_sem, y0, z0, y1, z1, y2, z2, y3, z3, y4, z4, y5, z5, y6, z6, y7, z7, y8, z8, y9, z9, y10, z10, y11, z11, y12, z12, yf, zf]) rfl ⟨rfl, ((((((((((((((((((((((((((HR.out.setCell (p := ⟨w.heap.size + 1, 0, none⟩) (show w.heap.size ≤ w.heap.size + 1 by omega) _).setCell (p := ⟨w.heap.size + 1, 1, none⟩) (show w.heap.size ≤ w.heap.size + 1 by omega) _).setCell (p := ⟨w.heap.size + 1, 2, none⟩) (show w.heap.size ≤ w.heap.size + 1 by omega) _).setCell (p := ⟨w.heap.size + 1, 3, none⟩) (show w.heap.size ≤ w.heap.size + 1 by omega) _).setCell (p := ⟨w.heap.size + 1, 4, none⟩) (show w.heap.size ≤ w.heap.size + 1 by omega) _).setCell (p := ⟨w.heap.size + 1, 5, none⟩) (show w.heap.size ≤ w.heap.size + 1 by omega) _).setCell (p := ⟨w.heap.size + 1, 6, none⟩) (show w.heap.size ≤ w.heap.size + 1 by omega) _).setCell (p := ⟨w.heap.size + 1, 7, none⟩) (show w.heap.size ≤ w.heap.size + 1 by omega) _).setCell (p := ⟨w.heap.size + 1, 8, none⟩) (show w.heap.size ≤ w.heap.size + 1 by omega) _).setCell (p := ⟨w.heap.size + 1, 9, none⟩) (show w.heap.size ≤ w.heap.size + 1 by omega) _).setCell (p := ⟨w.heap.size + 1, 10, none⟩) (show w.heap.size ≤ w.heap.size + 1 by omega) _).setCell (p := ⟨w.heap.size + 1, 11, none⟩) (show w.heap.size ≤ w.heap.size + 1 by omega) _).setCell (p := ⟨w.heap.size + 1, 12, none⟩) (show w.heap.size ≤ w.heap.size + 1 by omega) _).setCell (p := ⟨w.heap.size + 1 + 1, 0, none⟩) (show w.heap.size ≤ w.heap.size + 1 + 1 by omega) _).setCell (p := ⟨w.heap.size + 1 + 1, 1, none⟩) (show w.heap.size ≤ w.heap.size + 1 + 1 by omega) _).setCell (p := ⟨w.heap.size + 1 + 1, 2, none⟩) (show w.heap.size ≤ w.heap.size + 1 + 1 by omega) _).setCell (p := ⟨w.heap.size + 1 + 1, 3, none⟩) (show w.heap.size ≤ w.heap.size + 1 + 1 by omega) _).setCell (p := ⟨w.heap.size + 1 + 1, 4, none⟩) (show w.heap.size ≤ w.heap.size + 1 + 1 by omega) _).setCell (p := ⟨w.heap.size + 1 + 1, 5, none⟩) (show w.heap.size ≤ w.heap.size + 1 + 1 by omega) _).setCell (p := ⟨w.heap.size + 1 + 1, 6, none⟩) (show w.heap.size ≤ w.heap.size + 1 + 1 by omega) _).setCell (p := ⟨w.heap.size + 1 + 1, 7, none⟩) (show w.heap.size ≤ w.heap.size + 1 + 1 by omega) _).setCell (p := ⟨w.heap.size + 1 + 1, 8, none⟩) (show w.heap.size ≤ w.heap.size + 1 + 1 by omega) _).setCell (p := ⟨w.heap.size + 1 + 1, 9, none⟩) (show w.heap.size ≤ w.heap.size + 1 + 1 by omega) _).setCell (p := ⟨w.heap.size + 1 + 1, 10, none⟩) (show w.heap.size ≤ w.heap.size + 1 + 1 by omega) _).setCell (p := ⟨w.heap.size + 1 + 1, 11, none⟩) (show w.heap.size ≤ w.heap.size + 1 + 1 by omega) _).setCell (p := ⟨w.heap.size + 1 + 1, 12, none⟩) (show w.heap.size ≤ w.heap.size + 1 + 1 by omega) _)⟩

end Go.Proofs.YtjjaemobgfconaaDoor
