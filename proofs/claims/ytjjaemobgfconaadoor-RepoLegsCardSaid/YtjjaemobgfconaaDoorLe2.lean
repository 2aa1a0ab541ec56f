/-
  Legs.
-/
import Derived.Test.YtjjaemobgfconaaDoorLe1
import Derived.WalkKit
import Derived.Deep.QuietTactic
import Derived.BigQuiet
import Derived.Laws.EntriesVeiled
import Derived.Lib.MinMax
import Derived.Deep.Light
import Derived.Laws.Rows
namespace Go.Proofs.YtjjaemobgfconaaDoor
open Go.RowKit
set_option linter.unusedVariables false
set_option linter.unusedSimpArgs false
set_option linter.unnecessarySimpa false

/-- Rows ahead of a mark stay. -/
theorem RB.keepB {b B : Nat} {t : Ag} {wx wy : World} (h : RB b t wx) (hb : Below B wx wy) (hl : b < B) : RB b t wy := by
  have s := hb.size
  exact ⟨Nat.lt_of_lt_of_le h.lt s, (hb.cell (p := ⟨b, 0, none⟩) hl).trans h.c0, (hb.cell (p := ⟨b, 1, none⟩) hl).trans h.c1, (hb.cell (p := ⟨b, 2, none⟩) hl).trans h.c2, (hb.cell (p := ⟨b, 3, none⟩) hl).trans h.c3, (hb.cell (p := ⟨b, 4, none⟩) hl).trans h.c4, (hb.cell (p := ⟨b, 5, none⟩) hl).trans h.c5, (hb.cell (p := ⟨b, 6, none⟩) hl).trans h.c6, (hb.cell (p := ⟨b, 7, none⟩) hl).trans h.c7, (hb.cell (p := ⟨b, 8, none⟩) hl).trans h.c8, (hb.cell (p := ⟨b, 9, none⟩) hl).trans h.c9⟩
theorem TB.keepB {b B : Nat} {t : Tr} {wx wy : World} (h : TB b t wx) (hb : Below B wx wy) (hl : b < B) : TB b t wy := by
  have s := hb.size
  exact ⟨Nat.lt_of_lt_of_le h.lt s, (hb.cell (p := ⟨b, 0, none⟩) hl).trans h.c0, (hb.cell (p := ⟨b, 1, none⟩) hl).trans h.c1, (hb.cell (p := ⟨b, 2, none⟩) hl).trans h.c2, (hb.cell (p := ⟨b, 3, none⟩) hl).trans h.c3, (hb.cell (p := ⟨b, 4, none⟩) hl).trans h.c4, (hb.cell (p := ⟨b, 5, none⟩) hl).trans h.c5, (hb.cell (p := ⟨b, 6, none⟩) hl).trans h.c6, (hb.cell (p := ⟨b, 7, none⟩) hl).trans h.c7, (hb.cell (p := ⟨b, 8, none⟩) hl).trans h.c8, (hb.cell (p := ⟨b, 9, none⟩) hl).trans h.c9, (hb.cell (p := ⟨b, 10, none⟩) hl).trans h.c10, (hb.cell (p := ⟨b, 11, none⟩) hl).trans h.c11, (hb.cell (p := ⟨b, 12, none⟩) hl).trans h.c12⟩
set_option maxHeartbeats 16000000 in
set_option maxRecDepth 20000 in
theorem legs_any (t : Ag) (w : World) (S : Shp w) (h : t.Ok) : Calls Tryd.prog 24 #[.agg #[.string t.rf, .string t.se, .string t.bu, .string t.sn, .int .i64 t.q, .int .i64 t.c, .int .i64 t.n, .int .i64 t.d, .int .i64 t.op, .int .i64 t.cl]] w fun e w' => e = .returned (.tuple #[.agg #[.int .i64 (leA t).k, .string (leA t).d, .string (leA t).r, .string (leA t).a, .int .i64 (leA t).q, .int .i64 (leA t).m, .int .i64 (leA t).td, .int .i64 (leA t).sd, .int .i64 (leA t).p, .bool (leA t).pa, .int .i64 (leA t).ml, .string (leA t).r0, .string (leA t).r1], .agg #[.int .i64 (leB t).k, .string (leB t).d, .string (leB t).r, .string (leB t).a, .int .i64 (leB t).q, .int .i64 (leB t).m, .int .i64 (leB t).td, .int .i64 (leB t).sd, .int .i64 (leB t).p, .bool (leB t).pa, .int .i64 (leB t).ml, .string (leB t).r0, .string (leB t).r1], .int .i64 (agE t)]) ∧ Below w.heap.size w w' := by
  have S := hide S
  have RP := fun w S => hide (repay_any t w S h)
  clear h
  have hs1 : (w.alloc (Obj.cells #[.string t.rf, .string t.se, .string t.bu, .string t.sn, .int .i64 t.q, .int .i64 t.c, .int .i64 t.n, .int .i64 t.d, .int .i64 t.op, .int .i64 t.cl] 28)).heap.size = w.heap.size + 1 := Array.size_push _
  have hs2 : ((w.alloc (Obj.cells #[.string t.rf, .string t.se, .string t.bu, .string t.sn, .int .i64 t.q, .int .i64 t.c, .int .i64 t.n, .int .i64 t.d, .int .i64 t.op, .int .i64 t.cl] 28)).alloc (Obj.cells #[.int .i64 0, .string ⟨#[]⟩, .string ⟨#[]⟩, .string ⟨#[]⟩, .int .i64 0, .int .i64 0, .int .i64 0, .int .i64 0, .int .i64 0, .bool false, .int .i64 0, .string ⟨#[]⟩, .string ⟨#[]⟩] 56)).heap.size = w.heap.size + 1 + 1 := (Array.size_push _).trans (by rw [hs1])
  have A2 := two_allocs (w.alloc (Obj.cells #[.string t.rf, .string t.se, .string t.bu, .string t.sn, .int .i64 t.q, .int .i64 t.c, .int .i64 t.n, .int .i64 t.d, .int .i64 t.op, .int .i64 t.cl] 28)) (Obj.cells #[.int .i64 0, .string ⟨#[]⟩, .string ⟨#[]⟩, .string ⟨#[]⟩, .int .i64 0, .int .i64 0, .int .i64 0, .int .i64 0, .int .i64 0, .bool false, .int .i64 0, .string ⟨#[]⟩, .string ⟨#[]⟩] 56) (Obj.cells #[.int .i64 0, .string ⟨#[]⟩, .string ⟨#[]⟩, .string ⟨#[]⟩, .int .i64 0, .int .i64 0, .int .i64 0, .int .i64 0, .int .i64 0, .bool false, .int .i64 0, .string ⟨#[]⟩, .string ⟨#[]⟩] 56)
  have A1 := one_alloc ((w.alloc (Obj.cells #[.string t.rf, .string t.se, .string t.bu, .string t.sn, .int .i64 t.q, .int .i64 t.c, .int .i64 t.n, .int .i64 t.d, .int .i64 t.op, .int .i64 t.cl] 28)).alloc (Obj.cells #[.int .i64 0, .string ⟨#[]⟩, .string ⟨#[]⟩, .string ⟨#[]⟩, .int .i64 0, .int .i64 0, .int .i64 0, .int .i64 0, .int .i64 0, .bool false, .int .i64 0, .string ⟨#[]⟩, .string ⟨#[]⟩] 56)) (Obj.cells #[.int .i64 0, .string ⟨#[]⟩, .string ⟨#[]⟩, .string ⟨#[]⟩, .int .i64 0, .int .i64 0, .int .i64 0, .int .i64 0, .int .i64 0, .bool false, .int .i64 0, .string ⟨#[]⟩, .string ⟨#[]⟩] 56)
  have A0 := one_alloc w (Obj.cells #[.string t.rf, .string t.se, .string t.bu, .string t.sn, .int .i64 t.q, .int .i64 t.c, .int .i64 t.n, .int .i64 t.d, .int .i64 t.op, .int .i64 t.cl] 28)
  have HR := hide (A0.trans (A2.mono A0.size))
  have HB := hide ((RB.new t w 28).keep A2)
  have h1 := Array.getElem?_push_size (xs := (w.alloc (Obj.cells #[.string t.rf, .string t.se, .string t.bu, .string t.sn, .int .i64 t.q, .int .i64 t.c, .int .i64 t.n, .int .i64 t.d, .int .i64 t.op, .int .i64 t.cl] 28)).heap) (x := Obj.cells #[.int .i64 0, .string ⟨#[]⟩, .string ⟨#[]⟩, .string ⟨#[]⟩, .int .i64 0, .int .i64 0, .int .i64 0, .int .i64 0, .int .i64 0, .bool false, .int .i64 0, .string ⟨#[]⟩, .string ⟨#[]⟩] 56)
  rw [hs1] at h1
  have h2 := Array.getElem?_push_size (xs := ((w.alloc (Obj.cells #[.string t.rf, .string t.se, .string t.bu, .string t.sn, .int .i64 t.q, .int .i64 t.c, .int .i64 t.n, .int .i64 t.d, .int .i64 t.op, .int .i64 t.cl] 28)).alloc (Obj.cells #[.int .i64 0, .string ⟨#[]⟩, .string ⟨#[]⟩, .string ⟨#[]⟩, .int .i64 0, .int .i64 0, .int .i64 0, .int .i64 0, .int .i64 0, .bool false, .int .i64 0, .string ⟨#[]⟩, .string ⟨#[]⟩] 56)).heap) (x := Obj.cells #[.int .i64 0, .string ⟨#[]⟩, .string ⟨#[]⟩, .string ⟨#[]⟩, .int .i64 0, .int .i64 0, .int .i64 0, .int .i64 0, .int .i64 0, .bool false, .int .i64 0, .string ⟨#[]⟩, .string ⟨#[]⟩] 56)
  rw [hs2] at h2
  have HX1 : Hid ((((w.alloc (Obj.cells #[.string t.rf, .string t.se, .string t.bu, .string t.sn, .int .i64 t.q, .int .i64 t.c, .int .i64 t.n, .int .i64 t.d, .int .i64 t.op, .int .i64 t.cl] 28)).alloc (Obj.cells #[.int .i64 0, .string ⟨#[]⟩, .string ⟨#[]⟩, .string ⟨#[]⟩, .int .i64 0, .int .i64 0, .int .i64 0, .int .i64 0, .int .i64 0, .bool false, .int .i64 0, .string ⟨#[]⟩, .string ⟨#[]⟩] 56)).alloc (Obj.cells #[.int .i64 0, .string ⟨#[]⟩, .string ⟨#[]⟩, .string ⟨#[]⟩, .int .i64 0, .int .i64 0, .int .i64 0, .int .i64 0, .int .i64 0, .bool false, .int .i64 0, .string ⟨#[]⟩, .string ⟨#[]⟩] 56)).heap[w.heap.size + 1]? = some (.cells #[.int .i64 0, .string ⟨#[]⟩, .string ⟨#[]⟩, .string ⟨#[]⟩, .int .i64 0, .int .i64 0, .int .i64 0, .int .i64 0, .int .i64 0, .bool false, .int .i64 0, .string ⟨#[]⟩, .string ⟨#[]⟩] 56 (0, 0))) := hide ((A1.block (w.heap.size + 1) (by rw [hs2]; omega)).trans h1)
  have HX2 : Hid ((((w.alloc (Obj.cells #[.string t.rf, .string t.se, .string t.bu, .string t.sn, .int .i64 t.q, .int .i64 t.c, .int .i64 t.n, .int .i64 t.d, .int .i64 t.op, .int .i64 t.cl] 28)).alloc (Obj.cells #[.int .i64 0, .string ⟨#[]⟩, .string ⟨#[]⟩, .string ⟨#[]⟩, .int .i64 0, .int .i64 0, .int .i64 0, .int .i64 0, .int .i64 0, .bool false, .int .i64 0, .string ⟨#[]⟩, .string ⟨#[]⟩] 56)).alloc (Obj.cells #[.int .i64 0, .string ⟨#[]⟩, .string ⟨#[]⟩, .string ⟨#[]⟩, .int .i64 0, .int .i64 0, .int .i64 0, .int .i64 0, .int .i64 0, .bool false, .int .i64 0, .string ⟨#[]⟩, .string ⟨#[]⟩] 56)).heap[w.heap.size + 1 + 1]? = some (.cells #[.int .i64 0, .string ⟨#[]⟩, .string ⟨#[]⟩, .string ⟨#[]⟩, .int .i64 0, .int .i64 0, .int .i64 0, .int .i64 0, .int .i64 0, .bool false, .int .i64 0, .string ⟨#[]⟩, .string ⟨#[]⟩] 56 (0, 0))) := hide h2
  clear A2 A1 A0 h1 h2 hs1 hs2
  by_cases hz : agE t = 0
  · obtain eA : leA t = lgA t := by unfold leA; rw [if_pos hz]
    obtain eB : leB t = lgB t := by unfold leB; rw [if_pos hz]
    rw [eA, eB]
    unfold lgA lgB
    dsimp only
    have hrf := rf_len hz
    have S1 : ∀ w : World, (Op.stringOp .add t.rf ⟨#[45, 65]⟩).run Tryd.prog w = .ok (.string (t.rf ++ ⟨#[45, 65]⟩)) w := fun w => run_string_add w _ _ (by omega) (by decide)
    have S2 : ∀ w : World, (Op.stringOp .add t.rf ⟨#[45, 66]⟩).run Tryd.prog w = .ok (.string (t.rf ++ ⟨#[45, 66]⟩)) w := fun w => run_string_add w _ _ (by omega) (by decide)
    rw [hz] at RP ⊢
    clear eA eB hz hrf
    generalize (t.rf ++ ⟨#[45, 65]⟩ : ByteArray) = RA at *
    generalize (t.rf ++ ⟨#[45, 66]⟩ : ByteArray) = RC at *
    generalize reV t = V at *
    go_enter Tryd.func24, Tryd.ntmps24
    obtain ⟨_, c0, c1, c2, c3, c4, c5, c6, c7, c8, c9⟩ := HB.out
    go_wp2_with fail
    generalize ((w.alloc (Obj.cells #[.string t.rf, .string t.se, .string t.bu, .string t.sn, .int .i64 t.q, .int .i64 t.c, .int .i64 t.n, .int .i64 t.d, .int .i64 t.op, .int .i64 t.cl] 28)).alloc (Obj.cells #[.int .i64 0, .string ⟨#[]⟩, .string ⟨#[]⟩, .string ⟨#[]⟩, .int .i64 0, .int .i64 0, .int .i64 0, .int .i64 0, .int .i64 0, .bool false, .int .i64 0, .string ⟨#[]⟩, .string ⟨#[]⟩] 56)).alloc (Obj.cells #[.int .i64 0, .string ⟨#[]⟩, .string ⟨#[]⟩, .string ⟨#[]⟩, .int .i64 0, .int .i64 0, .int .i64 0, .int .i64 0, .int .i64 0, .bool false, .int .i64 0, .string ⟨#[]⟩, .string ⟨#[]⟩] 56) = X at *
    refine ((RP _ (S.out.keep HR.out)).out).mono ?_
    rintro e x ⟨rfl, hb⟩
    have HB := hide (HB.out.keep hb)
    have HR := hide (HR.out.trans (hb.mono HR.out.size))
    have HX1 := hide ((hb.block _ (Array.getElem?_eq_some_iff.1 HX1.out).1).trans HX1.out)
    have HX2 := hide ((hb.block _ (Array.getElem?_eq_some_iff.1 HX2.out).1).trans HX2.out)
    clear hb c0 c1 c2 c3 c4 c5 c6 c7 c8 c9
    obtain ⟨_, c0, c1, c2, c3, c4, c5, c6, c7, c8, c9⟩ := HB.out
    have X0 := hide (Below.refl x.heap.size x)
    go_wp2_with fail
    have hs3 : (x.alloc (Obj.cells #[.int .i64 1, .string t.se, .string t.bu, .string t.sn, .int .i64 t.q, .int .i64 t.c, .int .i64 t.op, .int .i64 t.op, .int .i64 0, .bool false, .int .i64 0, .string RA, .string RA] 56)).heap.size = x.heap.size + 1 := Array.size_push _
    have h2a := two_allocs x (Obj.cells #[.int .i64 1, .string t.se, .string t.bu, .string t.sn, .int .i64 t.q, .int .i64 t.c, .int .i64 t.op, .int .i64 t.op, .int .i64 0, .bool false, .int .i64 0, .string RA, .string RA] 56) (Obj.cells #[.int .i64 1, .string t.se, .string t.bu, .string t.sn, .int .i64 t.q, .int .i64 t.c, .int .i64 t.op, .int .i64 t.op, .int .i64 0, .bool false, .int .i64 0, .string RA, .string RA] 56)
    have h1a := one_alloc (x.alloc (Obj.cells #[.int .i64 1, .string t.se, .string t.bu, .string t.sn, .int .i64 t.q, .int .i64 t.c, .int .i64 t.op, .int .i64 t.op, .int .i64 0, .bool false, .int .i64 0, .string RA, .string RA] 56)) (Obj.cells #[.int .i64 1, .string t.se, .string t.bu, .string t.sn, .int .i64 t.q, .int .i64 t.c, .int .i64 t.op, .int .i64 t.op, .int .i64 0, .bool false, .int .i64 0, .string RA, .string RA] 56)
    have HA := hide ((TB.new (⟨1, t.se, t.bu, t.sn, t.q, t.c, t.op, t.op, 0, false, 0, RA, RA⟩ : Tr) x 56).keep h1a)
    have hN := TB.new (⟨1, t.se, t.bu, t.sn, t.q, t.c, t.op, t.op, 0, false, 0, RA, RA⟩ : Tr) (x.alloc (Obj.cells #[.int .i64 1, .string t.se, .string t.bu, .string t.sn, .int .i64 t.q, .int .i64 t.c, .int .i64 t.op, .int .i64 t.op, .int .i64 0, .bool false, .int .i64 0, .string RA, .string RA] 56)) 56
    have hW := Array.getElem?_push_size (xs := (x.alloc (Obj.cells #[.int .i64 1, .string t.se, .string t.bu, .string t.sn, .int .i64 t.q, .int .i64 t.c, .int .i64 t.op, .int .i64 t.op, .int .i64 0, .bool false, .int .i64 0, .string RA, .string RA] 56)).heap) (x := Obj.cells #[.int .i64 1, .string t.se, .string t.bu, .string t.sn, .int .i64 t.q, .int .i64 t.c, .int .i64 t.op, .int .i64 t.op, .int .i64 0, .bool false, .int .i64 0, .string RA, .string RA] 56)
    rw [hs3] at hN hW
    have HN : Hid (TB (x.heap.size + 1) (⟨1, t.se, t.bu, t.sn, t.q, t.c, t.op, t.op, 0, false, 0, RA, RA⟩ : Tr) ((x.alloc (Obj.cells #[.int .i64 1, .string t.se, .string t.bu, .string t.sn, .int .i64 t.q, .int .i64 t.c, .int .i64 t.op, .int .i64 t.op, .int .i64 0, .bool false, .int .i64 0, .string RA, .string RA] 56)).alloc (Obj.cells #[.int .i64 1, .string t.se, .string t.bu, .string t.sn, .int .i64 t.q, .int .i64 t.c, .int .i64 t.op, .int .i64 t.op, .int .i64 0, .bool false, .int .i64 0, .string RA, .string RA] 56))) := hide hN
    have HW : Hid (((x.alloc (Obj.cells #[.int .i64 1, .string t.se, .string t.bu, .string t.sn, .int .i64 t.q, .int .i64 t.c, .int .i64 t.op, .int .i64 t.op, .int .i64 0, .bool false, .int .i64 0, .string RA, .string RA] 56)).alloc (Obj.cells #[.int .i64 1, .string t.se, .string t.bu, .string t.sn, .int .i64 t.q, .int .i64 t.c, .int .i64 t.op, .int .i64 t.op, .int .i64 0, .bool false, .int .i64 0, .string RA, .string RA] 56)).heap[x.heap.size + 1]? = some (.cells #[.int .i64 1, .string t.se, .string t.bu, .string t.sn, .int .i64 t.q, .int .i64 t.c, .int .i64 t.op, .int .i64 t.op, .int .i64 0, .bool false, .int .i64 0, .string RA, .string RA] 56 (0, 0))) := hide hW
    have HB := hide (HB.out.keep h2a)
    have HR := hide (HR.out.trans (h2a.mono HR.out.size))
    have L0 := hide (Array.getElem?_eq_some_iff.1 HX2.out).1
    have HX1 := hide ((h2a.block _ (Array.getElem?_eq_some_iff.1 HX1.out).1).trans HX1.out)
    have HX2 := hide ((h2a.block _ (Array.getElem?_eq_some_iff.1 HX2.out).1).trans HX2.out)
    clear h2a h1a hN hW hs3 X0 c0 c1 c2 c3 c4 c5 c6 c7 c8 c9
    have HBB := hide (show x.heap.size + 1 = x.heap.size + 1 from rfl)
    generalize (x.alloc (Obj.cells #[.int .i64 1, .string t.se, .string t.bu, .string t.sn, .int .i64 t.q, .int .i64 t.c, .int .i64 t.op, .int .i64 t.op, .int .i64 0, .bool false, .int .i64 0, .string RA, .string RA] 56)).alloc (Obj.cells #[.int .i64 1, .string t.se, .string t.bu, .string t.sn, .int .i64 t.q, .int .i64 t.c, .int .i64 t.op, .int .i64 t.op, .int .i64 0, .bool false, .int .i64 0, .string RA, .string RA] 56) = x2 at *
    obtain ⟨B, hB⟩ : ∃ B, B = x.heap.size + 1 := ⟨_, rfl⟩
    obtain ⟨A, hA⟩ : ∃ A, A = x.heap.size := ⟨_, rfl⟩
    rw [← hB] at HN HW HBB ⊢
    rw [← hA] at HA L0 hB ⊢
    clear hA HBB
    have LB := hide hB
    clear hB
    obtain ⟨_, c0, c1, c2, c3, c4, c5, c6, c7, c8, c9⟩ := HB.out
    obtain ⟨_, e0, e1, e2, e3, e4, e5, e6, e7, e8, e9, e10, e11, e12⟩ := HN.out
    dsimp only at e0 e1 e2 e3 e4 e5 e6 e7 e8 e9 e10 e11 e12
    have cf : ∀ j, x2.frozen? ⟨B, j, none⟩ = false := fun j => (row_cell HW.out (Below.refl _ _) j).2
    have ne3 : ¬ (w.heap.size = B) := by have := L0.out; have := LB.out; omega
    have ne4 : ¬ (B = w.heap.size) := by have := L0.out; have := LB.out; omega
    go_region
    have LN : B < (((((x2.setCell ⟨B, 1, none⟩ (.string t.bu)).setCell ⟨B, 2, none⟩ (.string t.se)).setCell ⟨B, 5, none⟩ (.int .i64 V)).setCell ⟨B, 7, none⟩ (.int .i64 t.cl)).drew).heap.size := by simpa using HN.out.lt
    have HN3 := hide (show TB B (⟨1, t.bu, t.se, t.sn, t.q, V, t.op, t.cl, 0, false, 0, RA, RA⟩ : Tr) (((((x2.setCell ⟨B, 1, none⟩ (.string t.bu)).setCell ⟨B, 2, none⟩ (.string t.se)).setCell ⟨B, 5, none⟩ (.int .i64 V)).setCell ⟨B, 7, none⟩ (.int .i64 t.cl)).drew) from ⟨LN, by simp [go_sem, e0, e1, e2, e3, e4, e5, e6, e7, e8, e9, e10, e11, e12, cf], by simp [go_sem, e0, e1, e2, e3, e4, e5, e6, e7, e8, e9, e10, e11, e12, cf], by simp [go_sem, e0, e1, e2, e3, e4, e5, e6, e7, e8, e9, e10, e11, e12, cf], by simp [go_sem, e0, e1, e2, e3, e4, e5, e6, e7, e8, e9, e10, e11, e12, cf], by simp [go_sem, e0, e1, e2, e3, e4, e5, e6, e7, e8, e9, e10, e11, e12, cf], by simp [go_sem, e0, e1, e2, e3, e4, e5, e6, e7, e8, e9, e10, e11, e12, cf], by simp [go_sem, e0, e1, e2, e3, e4, e5, e6, e7, e8, e9, e10, e11, e12, cf], by simp [go_sem, e0, e1, e2, e3, e4, e5, e6, e7, e8, e9, e10, e11, e12, cf], by simp [go_sem, e0, e1, e2, e3, e4, e5, e6, e7, e8, e9, e10, e11, e12, cf], by simp [go_sem, e0, e1, e2, e3, e4, e5, e6, e7, e8, e9, e10, e11, e12, cf], by simp [go_sem, e0, e1, e2, e3, e4, e5, e6, e7, e8, e9, e10, e11, e12, cf], by simp [go_sem, e0, e1, e2, e3, e4, e5, e6, e7, e8, e9, e10, e11, e12, cf], by simp [go_sem, e0, e1, e2, e3, e4, e5, e6, e7, e8, e9, e10, e11, e12, cf]⟩)
    have HF3 := hide (show ∀ j, (((((x2.setCell ⟨B, 1, none⟩ (.string t.bu)).setCell ⟨B, 2, none⟩ (.string t.se)).setCell ⟨B, 5, none⟩ (.int .i64 V)).setCell ⟨B, 7, none⟩ (.int .i64 t.cl)).drew).frozen? ⟨B, j, none⟩ = false from fun j => by simp [go_sem, cf])
    have HR3 := hide (show Below w.heap.size w (((((x2.setCell ⟨B, 1, none⟩ (.string t.bu)).setCell ⟨B, 2, none⟩ (.string t.se)).setCell ⟨B, 5, none⟩ (.int .i64 V)).setCell ⟨B, 7, none⟩ (.int .i64 t.cl)).drew) from (((((HR.out.setCell (p := ⟨B, 1, none⟩) (show w.heap.size ≤ B by have := L0.out; have := LB.out; omega) _).setCell (p := ⟨B, 2, none⟩) (show w.heap.size ≤ B by have := L0.out; have := LB.out; omega) _).setCell (p := ⟨B, 5, none⟩) (show w.heap.size ≤ B by have := L0.out; have := LB.out; omega) _).setCell (p := ⟨B, 7, none⟩) (show w.heap.size ≤ B by have := L0.out; have := LB.out; omega) _)).drew)
    have KX := hide (show Below B x2 (((((x2.setCell ⟨B, 1, none⟩ (.string t.bu)).setCell ⟨B, 2, none⟩ (.string t.se)).setCell ⟨B, 5, none⟩ (.int .i64 V)).setCell ⟨B, 7, none⟩ (.int .i64 t.cl)).drew) from ((((((Below.refl _ _).setCell (p := ⟨B, 1, none⟩) (Nat.le_refl _) _).setCell (p := ⟨B, 2, none⟩) (Nat.le_refl _) _).setCell (p := ⟨B, 5, none⟩) (Nat.le_refl _) _).setCell (p := ⟨B, 7, none⟩) (Nat.le_refl _) _)).drew)
    have HA3 := hide (HA.out.keepB KX.out (by have := LB.out; omega))
    have HB3 := hide (HB.out.keepB KX.out (by have := LB.out; have := L0.out; omega))
    have HY1 := hide ((KX.out.block _ (by have := LB.out; have := L0.out; omega)).trans HX1.out)
    have HY2 := hide ((KX.out.block _ (by have := LB.out; have := L0.out; omega)).trans HX2.out)
    clear KX HX1 HX2 HA HB HR HN HW cf c0 c1 c2 c3 c4 c5 c6 c7 c8 c9 e0 e1 e2 e3 e4 e5 e6 e7 e8 e9 e10 e11 e12 ne3 ne4
    generalize ((((x2.setCell ⟨B, 1, none⟩ (.string t.bu)).setCell ⟨B, 2, none⟩ (.string t.se)).setCell ⟨B, 5, none⟩ (.int .i64 V)).setCell ⟨B, 7, none⟩ (.int .i64 t.cl)).drew = x3 at *
    obtain ⟨_, e0, e1, e2, e3, e4, e5, e6, e7, e8, e9, e10, e11, e12⟩ := HN3.out
    obtain ⟨_, c0, c1, c2, c3, c4, c5, c6, c7, c8, c9⟩ := HB3.out
    dsimp only at e0 e1 e2 e3 e4 e5 e6 e7 e8 e9 e10 e11 e12
    have cf := HF3.out
    go_wp2_with fail
    have LN : B < ((x3.setCell ⟨B, 11, none⟩ (.string RC)).setCell ⟨B, 12, none⟩ (.string RC)).heap.size := by simpa using HN3.out.lt
    have HN4 := hide (show TB B (⟨1, t.bu, t.se, t.sn, t.q, V, t.op, t.cl, 0, false, 0, RC, RC⟩ : Tr) ((x3.setCell ⟨B, 11, none⟩ (.string RC)).setCell ⟨B, 12, none⟩ (.string RC)) from ⟨LN, by simp [go_sem, e0, e1, e2, e3, e4, e5, e6, e7, e8, e9, e10, e11, e12, cf], by simp [go_sem, e0, e1, e2, e3, e4, e5, e6, e7, e8, e9, e10, e11, e12, cf], by simp [go_sem, e0, e1, e2, e3, e4, e5, e6, e7, e8, e9, e10, e11, e12, cf], by simp [go_sem, e0, e1, e2, e3, e4, e5, e6, e7, e8, e9, e10, e11, e12, cf], by simp [go_sem, e0, e1, e2, e3, e4, e5, e6, e7, e8, e9, e10, e11, e12, cf], by simp [go_sem, e0, e1, e2, e3, e4, e5, e6, e7, e8, e9, e10, e11, e12, cf], by simp [go_sem, e0, e1, e2, e3, e4, e5, e6, e7, e8, e9, e10, e11, e12, cf], by simp [go_sem, e0, e1, e2, e3, e4, e5, e6, e7, e8, e9, e10, e11, e12, cf], by simp [go_sem, e0, e1, e2, e3, e4, e5, e6, e7, e8, e9, e10, e11, e12, cf], by simp [go_sem, e0, e1, e2, e3, e4, e5, e6, e7, e8, e9, e10, e11, e12, cf], by simp [go_sem, e0, e1, e2, e3, e4, e5, e6, e7, e8, e9, e10, e11, e12, cf], by simp [go_sem, e0, e1, e2, e3, e4, e5, e6, e7, e8, e9, e10, e11, e12, cf], by simp [go_sem, e0, e1, e2, e3, e4, e5, e6, e7, e8, e9, e10, e11, e12, cf]⟩)
    have HR4 := hide (show Below w.heap.size w ((x3.setCell ⟨B, 11, none⟩ (.string RC)).setCell ⟨B, 12, none⟩ (.string RC)) from ((HR3.out.setCell (p := ⟨B, 11, none⟩) (show w.heap.size ≤ B by have := L0.out; have := LB.out; omega) _).setCell (p := ⟨B, 12, none⟩) (show w.heap.size ≤ B by have := L0.out; have := LB.out; omega) _))
    have KX := hide (show Below B x3 ((x3.setCell ⟨B, 11, none⟩ (.string RC)).setCell ⟨B, 12, none⟩ (.string RC)) from (((Below.refl _ _).setCell (p := ⟨B, 11, none⟩) (Nat.le_refl _) _).setCell (p := ⟨B, 12, none⟩) (Nat.le_refl _) _))
    have HA4 := hide (HA3.out.keepB KX.out (by have := LB.out; omega))
    have HY1 := hide ((KX.out.block _ (by have := LB.out; have := L0.out; omega)).trans HY1.out)
    have HY2 := hide ((KX.out.block _ (by have := LB.out; have := L0.out; omega)).trans HY2.out)
    clear KX HA3 HB3 HR3 HN3 HF3 cf c0 c1 c2 c3 c4 c5 c6 c7 c8 c9 e0 e1 e2 e3 e4 e5 e6 e7 e8 e9 e10 e11 e12
    generalize (x3.setCell ⟨B, 11, none⟩ (.string RC)).setCell ⟨B, 12, none⟩ (.string RC) = x4 at *
    have ne5 : ¬ (w.heap.size + 1 = B) := by have := L0.out; have := LB.out; omega
    have ne6 : ¬ (B = w.heap.size + 1) := by have := L0.out; have := LB.out; omega
    have ne7 : ¬ (w.heap.size + 1 + 1 = B) := by have := L0.out; have := LB.out; omega
    have ne8 : ¬ (B = w.heap.size + 1 + 1) := by have := L0.out; have := LB.out; omega
    have na5 : ¬ (w.heap.size + 1 = A) := by have := L0.out; omega
    have na6 : ¬ (A = w.heap.size + 1) := by have := L0.out; omega
    have na7 : ¬ (w.heap.size + 1 + 1 = A) := by have := L0.out; omega
    have na8 : ¬ (A = w.heap.size + 1 + 1) := by have := L0.out; omega
    obtain ⟨_, e0, e1, e2, e3, e4, e5, e6, e7, e8, e9, e10, e11, e12⟩ := HN4.out
    obtain ⟨_, f0, f1, f2, f3, f4, f5, f6, f7, f8, f9, f10, f11, f12⟩ := HA4.out
    dsimp only at e0 e1 e2 e3 e4 e5 e6 e7 e8 e9 e10 e11 e12 f0 f1 f2 f3 f4 f5 f6 f7 f8 f9 f10 f11 f12
    have y0 : x4.cell? ⟨w.heap.size + 1, 0, none⟩ = some (.int .i64 0) := (row_cell HY1.out (Below.refl _ _) 0).1
    have y1 : x4.cell? ⟨w.heap.size + 1, 1, none⟩ = some (.string ⟨#[]⟩) := (row_cell HY1.out (Below.refl _ _) 1).1
    have y2 : x4.cell? ⟨w.heap.size + 1, 2, none⟩ = some (.string ⟨#[]⟩) := (row_cell HY1.out (Below.refl _ _) 2).1
    have y3 : x4.cell? ⟨w.heap.size + 1, 3, none⟩ = some (.string ⟨#[]⟩) := (row_cell HY1.out (Below.refl _ _) 3).1
    have y4 : x4.cell? ⟨w.heap.size + 1, 4, none⟩ = some (.int .i64 0) := (row_cell HY1.out (Below.refl _ _) 4).1
    have y5 : x4.cell? ⟨w.heap.size + 1, 5, none⟩ = some (.int .i64 0) := (row_cell HY1.out (Below.refl _ _) 5).1
    have y6 : x4.cell? ⟨w.heap.size + 1, 6, none⟩ = some (.int .i64 0) := (row_cell HY1.out (Below.refl _ _) 6).1
    have y7 : x4.cell? ⟨w.heap.size + 1, 7, none⟩ = some (.int .i64 0) := (row_cell HY1.out (Below.refl _ _) 7).1
    have y8 : x4.cell? ⟨w.heap.size + 1, 8, none⟩ = some (.int .i64 0) := (row_cell HY1.out (Below.refl _ _) 8).1
    have y9 : x4.cell? ⟨w.heap.size + 1, 9, none⟩ = some (.bool false) := (row_cell HY1.out (Below.refl _ _) 9).1
    have y10 : x4.cell? ⟨w.heap.size + 1, 10, none⟩ = some (.int .i64 0) := (row_cell HY1.out (Below.refl _ _) 10).1
    have y11 : x4.cell? ⟨w.heap.size + 1, 11, none⟩ = some (.string ⟨#[]⟩) := (row_cell HY1.out (Below.refl _ _) 11).1
    have y12 : x4.cell? ⟨w.heap.size + 1, 12, none⟩ = some (.string ⟨#[]⟩) := (row_cell HY1.out (Below.refl _ _) 12).1
    have yf : ∀ j, x4.frozen? ⟨w.heap.size + 1, j, none⟩ = false := fun j => (row_cell HY1.out (Below.refl _ _) j).2
    have z0 : x4.cell? ⟨w.heap.size + 1 + 1, 0, none⟩ = some (.int .i64 0) := (row_cell HY2.out (Below.refl _ _) 0).1
    have z1 : x4.cell? ⟨w.heap.size + 1 + 1, 1, none⟩ = some (.string ⟨#[]⟩) := (row_cell HY2.out (Below.refl _ _) 1).1
    have z2 : x4.cell? ⟨w.heap.size + 1 + 1, 2, none⟩ = some (.string ⟨#[]⟩) := (row_cell HY2.out (Below.refl _ _) 2).1
    have z3 : x4.cell? ⟨w.heap.size + 1 + 1, 3, none⟩ = some (.string ⟨#[]⟩) := (row_cell HY2.out (Below.refl _ _) 3).1
    have z4 : x4.cell? ⟨w.heap.size + 1 + 1, 4, none⟩ = some (.int .i64 0) := (row_cell HY2.out (Below.refl _ _) 4).1
    have z5 : x4.cell? ⟨w.heap.size + 1 + 1, 5, none⟩ = some (.int .i64 0) := (row_cell HY2.out (Below.refl _ _) 5).1
    have z6 : x4.cell? ⟨w.heap.size + 1 + 1, 6, none⟩ = some (.int .i64 0) := (row_cell HY2.out (Below.refl _ _) 6).1
    have z7 : x4.cell? ⟨w.heap.size + 1 + 1, 7, none⟩ = some (.int .i64 0) := (row_cell HY2.out (Below.refl _ _) 7).1
    have z8 : x4.cell? ⟨w.heap.size + 1 + 1, 8, none⟩ = some (.int .i64 0) := (row_cell HY2.out (Below.refl _ _) 8).1
    have z9 : x4.cell? ⟨w.heap.size + 1 + 1, 9, none⟩ = some (.bool false) := (row_cell HY2.out (Below.refl _ _) 9).1
    have z10 : x4.cell? ⟨w.heap.size + 1 + 1, 10, none⟩ = some (.int .i64 0) := (row_cell HY2.out (Below.refl _ _) 10).1
    have z11 : x4.cell? ⟨w.heap.size + 1 + 1, 11, none⟩ = some (.string ⟨#[]⟩) := (row_cell HY2.out (Below.refl _ _) 11).1
    have z12 : x4.cell? ⟨w.heap.size + 1 + 1, 12, none⟩ = some (.string ⟨#[]⟩) := (row_cell HY2.out (Below.refl _ _) 12).1
    have zf : ∀ j, x4.frozen? ⟨w.heap.size + 1 + 1, j, none⟩ = false := fun j => (row_cell HY2.out (Below.refl _ _) j).2
    go_region
    go_wp2_with fail
    exact bodyPost_ret (v := .tuple #[.agg #[.int .i64 1, .string t.se, .string t.bu, .string t.sn, .int .i64 t.q, .int .i64 t.c, .int .i64 t.op, .int .i64 t.op, .int .i64 0, .bool false, .int .i64 0, .string RA, .string RA], .agg #[.int .i64 1, .string t.bu, .string t.se, .string t.sn, .int .i64 t.q, .int .i64 V, .int .i64 t.op, .int .i64 t.cl, .int .i64 0, .bool false, .int .i64 0, .string RC, .string RC], .int .i64 0]) (by simp [results, Tryd.results24, go_sem, y0, z0, y1, z1, y2, z2, y3, z3, y4, z4, y5, z5, y6, z6, y7, z7, y8, z8, y9, z9, y10, z10, y11, z11, y12, z12, yf, zf]) rfl ⟨rfl, (((((((((((((((((((((((((((HR4.out.setCell (p := ⟨w.heap.size + 1, 0, none⟩) (show w.heap.size ≤ w.heap.size + 1 by omega) _).setCell (p := ⟨w.heap.size + 1, 1, none⟩) (show w.heap.size ≤ w.heap.size + 1 by omega) _).setCell (p := ⟨w.heap.size + 1, 2, none⟩) (show w.heap.size ≤ w.heap.size + 1 by omega) _).setCell (p := ⟨w.heap.size + 1, 3, none⟩) (show w.heap.size ≤ w.heap.size + 1 by omega) _).setCell (p := ⟨w.heap.size + 1, 4, none⟩) (show w.heap.size ≤ w.heap.size + 1 by omega) _).setCell (p := ⟨w.heap.size + 1, 5, none⟩) (show w.heap.size ≤ w.heap.size + 1 by omega) _).setCell (p := ⟨w.heap.size + 1, 6, none⟩) (show w.heap.size ≤ w.heap.size + 1 by omega) _).setCell (p := ⟨w.heap.size + 1, 7, none⟩) (show w.heap.size ≤ w.heap.size + 1 by omega) _).setCell (p := ⟨w.heap.size + 1, 8, none⟩) (show w.heap.size ≤ w.heap.size + 1 by omega) _).setCell (p := ⟨w.heap.size + 1, 9, none⟩) (show w.heap.size ≤ w.heap.size + 1 by omega) _).setCell (p := ⟨w.heap.size + 1, 10, none⟩) (show w.heap.size ≤ w.heap.size + 1 by omega) _).setCell (p := ⟨w.heap.size + 1, 11, none⟩) (show w.heap.size ≤ w.heap.size + 1 by omega) _).setCell (p := ⟨w.heap.size + 1, 12, none⟩) (show w.heap.size ≤ w.heap.size + 1 by omega) _).setCell (p := ⟨w.heap.size + 1 + 1, 0, none⟩) (show w.heap.size ≤ w.heap.size + 1 + 1 by omega) _).setCell (p := ⟨w.heap.size + 1 + 1, 1, none⟩) (show w.heap.size ≤ w.heap.size + 1 + 1 by omega) _).setCell (p := ⟨w.heap.size + 1 + 1, 2, none⟩) (show w.heap.size ≤ w.heap.size + 1 + 1 by omega) _).setCell (p := ⟨w.heap.size + 1 + 1, 3, none⟩) (show w.heap.size ≤ w.heap.size + 1 + 1 by omega) _).setCell (p := ⟨w.heap.size + 1 + 1, 4, none⟩) (show w.heap.size ≤ w.heap.size + 1 + 1 by omega) _).setCell (p := ⟨w.heap.size + 1 + 1, 5, none⟩) (show w.heap.size ≤ w.heap.size + 1 + 1 by omega) _).setCell (p := ⟨w.heap.size + 1 + 1, 6, none⟩) (show w.heap.size ≤ w.heap.size + 1 + 1 by omega) _).setCell (p := ⟨w.heap.size + 1 + 1, 7, none⟩) (show w.heap.size ≤ w.heap.size + 1 + 1 by omega) _).setCell (p := ⟨w.heap.size + 1 + 1, 8, none⟩) (show w.heap.size ≤ w.heap.size + 1 + 1 by omega) _).setCell (p := ⟨w.heap.size + 1 + 1, 9, none⟩) (show w.heap.size ≤ w.heap.size + 1 + 1 by omega) _).setCell (p := ⟨w.heap.size + 1 + 1, 10, none⟩) (show w.heap.size ≤ w.heap.size + 1 + 1 by omega) _).setCell (p := ⟨w.heap.size + 1 + 1, 11, none⟩) (show w.heap.size ≤ w.heap.size + 1 + 1 by omega) _).setCell (p := ⟨w.heap.size + 1 + 1, 12, none⟩) (show w.heap.size ≤ w.heap.size + 1 + 1 by omega) _)).drew⟩
  · obtain eA : leA t = zT := by unfold leA; rw [if_neg hz]
    obtain eB : leB t = zT := by unfold leB; rw [if_neg hz]
    rw [eA, eB]
    unfold zT
    dsimp only
    have hz' : (agE t != 0) = true := by simpa using hz
    generalize agE t = E at *
    clear eA eB hz
    go_enter Tryd.func24, Tryd.ntmps24
    obtain ⟨_, c0, c1, c2, c3, c4, c5, c6, c7, c8, c9⟩ := HB.out
    go_wp2_with fail
    generalize ((w.alloc (Obj.cells #[.string t.rf, .string t.se, .string t.bu, .string t.sn, .int .i64 t.q, .int .i64 t.c, .int .i64 t.n, .int .i64 t.d, .int .i64 t.op, .int .i64 t.cl] 28)).alloc (Obj.cells #[.int .i64 0, .string ⟨#[]⟩, .string ⟨#[]⟩, .string ⟨#[]⟩, .int .i64 0, .int .i64 0, .int .i64 0, .int .i64 0, .int .i64 0, .bool false, .int .i64 0, .string ⟨#[]⟩, .string ⟨#[]⟩] 56)).alloc (Obj.cells #[.int .i64 0, .string ⟨#[]⟩, .string ⟨#[]⟩, .string ⟨#[]⟩, .int .i64 0, .int .i64 0, .int .i64 0, .int .i64 0, .int .i64 0, .bool false, .int .i64 0, .string ⟨#[]⟩, .string ⟨#[]⟩] 56) = X at *
    refine ((RP _ (S.out.keep HR.out)).out).mono ?_
    rintro e x ⟨rfl, hb⟩
    have HB := hide (HB.out.keep hb)
    have HR := hide (HR.out.trans (hb.mono HR.out.size))
    have HX1 := hide ((hb.block _ (Array.getElem?_eq_some_iff.1 HX1.out).1).trans HX1.out)
    have HX2 := hide ((hb.block _ (Array.getElem?_eq_some_iff.1 HX2.out).1).trans HX2.out)
    clear hb c0 c1 c2 c3 c4 c5 c6 c7 c8 c9
    obtain ⟨_, c0, c1, c2, c3, c4, c5, c6, c7, c8, c9⟩ := HB.out
    have y0 : x.cell? ⟨w.heap.size + 1, 0, none⟩ = some (.int .i64 0) := (row_cell HX1.out (Below.refl _ _) 0).1
    have y1 : x.cell? ⟨w.heap.size + 1, 1, none⟩ = some (.string ⟨#[]⟩) := (row_cell HX1.out (Below.refl _ _) 1).1
    have y2 : x.cell? ⟨w.heap.size + 1, 2, none⟩ = some (.string ⟨#[]⟩) := (row_cell HX1.out (Below.refl _ _) 2).1
    have y3 : x.cell? ⟨w.heap.size + 1, 3, none⟩ = some (.string ⟨#[]⟩) := (row_cell HX1.out (Below.refl _ _) 3).1
    have y4 : x.cell? ⟨w.heap.size + 1, 4, none⟩ = some (.int .i64 0) := (row_cell HX1.out (Below.refl _ _) 4).1
    have y5 : x.cell? ⟨w.heap.size + 1, 5, none⟩ = some (.int .i64 0) := (row_cell HX1.out (Below.refl _ _) 5).1
    have y6 : x.cell? ⟨w.heap.size + 1, 6, none⟩ = some (.int .i64 0) := (row_cell HX1.out (Below.refl _ _) 6).1
    have y7 : x.cell? ⟨w.heap.size + 1, 7, none⟩ = some (.int .i64 0) := (row_cell HX1.out (Below.refl _ _) 7).1
    have y8 : x.cell? ⟨w.heap.size + 1, 8, none⟩ = some (.int .i64 0) := (row_cell HX1.out (Below.refl _ _) 8).1
    have y9 : x.cell? ⟨w.heap.size + 1, 9, none⟩ = some (.bool false) := (row_cell HX1.out (Below.refl _ _) 9).1
    have y10 : x.cell? ⟨w.heap.size + 1, 10, none⟩ = some (.int .i64 0) := (row_cell HX1.out (Below.refl _ _) 10).1
    have y11 : x.cell? ⟨w.heap.size + 1, 11, none⟩ = some (.string ⟨#[]⟩) := (row_cell HX1.out (Below.refl _ _) 11).1
    have y12 : x.cell? ⟨w.heap.size + 1, 12, none⟩ = some (.string ⟨#[]⟩) := (row_cell HX1.out (Below.refl _ _) 12).1
    have yf : ∀ j, x.frozen? ⟨w.heap.size + 1, j, none⟩ = false := fun j => (row_cell HX1.out (Below.refl _ _) j).2
    have z0 : x.cell? ⟨w.heap.size + 1 + 1, 0, none⟩ = some (.int .i64 0) := (row_cell HX2.out (Below.refl _ _) 0).1
    have z1 : x.cell? ⟨w.heap.size + 1 + 1, 1, none⟩ = some (.string ⟨#[]⟩) := (row_cell HX2.out (Below.refl _ _) 1).1
    have z2 : x.cell? ⟨w.heap.size + 1 + 1, 2, none⟩ = some (.string ⟨#[]⟩) := (row_cell HX2.out (Below.refl _ _) 2).1
    have z3 : x.cell? ⟨w.heap.size + 1 + 1, 3, none⟩ = some (.string ⟨#[]⟩) := (row_cell HX2.out (Below.refl _ _) 3).1
    have z4 : x.cell? ⟨w.heap.size + 1 + 1, 4, none⟩ = some (.int .i64 0) := (row_cell HX2.out (Below.refl _ _) 4).1
    have z5 : x.cell? ⟨w.heap.size + 1 + 1, 5, none⟩ = some (.int .i64 0) := (row_cell HX2.out (Below.refl _ _) 5).1
    have z6 : x.cell? ⟨w.heap.size + 1 + 1, 6, none⟩ = some (.int .i64 0) := (row_cell HX2.out (Below.refl _ _) 6).1
    have z7 : x.cell? ⟨w.heap.size + 1 + 1, 7, none⟩ = some (.int .i64 0) := (row_cell HX2.out (Below.refl _ _) 7).1
    have z8 : x.cell? ⟨w.heap.size + 1 + 1, 8, none⟩ = some (.int .i64 0) := (row_cell HX2.out (Below.refl _ _) 8).1
    have z9 : x.cell? ⟨w.heap.size + 1 + 1, 9, none⟩ = some (.bool false) := (row_cell HX2.out (Below.refl _ _) 9).1
    have z10 : x.cell? ⟨w.heap.size + 1 + 1, 10, none⟩ = some (.int .i64 0) := (row_cell HX2.out (Below.refl _ _) 10).1
    have z11 : x.cell? ⟨w.heap.size + 1 + 1, 11, none⟩ = some (.string ⟨#[]⟩) := (row_cell HX2.out (Below.refl _ _) 11).1
    have z12 : x.cell? ⟨w.heap.size + 1 + 1, 12, none⟩ = some (.string ⟨#[]⟩) := (row_cell HX2.out (Below.refl _ _) 12).1
    have zf : ∀ j, x.frozen? ⟨w.heap.size + 1 + 1, j, none⟩ = false := fun j => (row_cell HX2.out (Below.refl _ _) j).2
    go_wp2_with fail
    exact bodyPost_ret (v := .tuple #[.agg #[.int .i64 0, .string ⟨#[]⟩, .string ⟨#[]⟩, .string ⟨#[]⟩, .int .i64 0, .int .i64 0, .int .i64 0, .int .i64 0, .int .i64 0, .bool false, .int .i64 0, .string ⟨#[]⟩, .string ⟨#[]⟩], .agg #[.int .i64 0, .string ⟨#[]⟩, .string ⟨#[]⟩, .string ⟨#[]⟩, .int .i64 0, .int .i64 0, .int .i64 0, .int .i64 0, .int .i64 0, .bool false, .int .i64 0, .string ⟨#[]⟩, .string ⟨#[]⟩], .int .i64 E]) (by simp [results, Tryd.results24, go_sem, y0, z0, y1, z1, y2, z2, y3, z3, y4, z4, y5, z5, y6, z6, y7, z7, y8, z8, y9, z9, y10, z10, y11, z11, y12, z12, yf, zf]) rfl ⟨rfl, ((((((((((((((((((((((((((HR.out.setCell (p := ⟨w.heap.size + 1, 0, none⟩) (show w.heap.size ≤ w.heap.size + 1 by omega) _).setCell (p := ⟨w.heap.size + 1, 1, none⟩) (show w.heap.size ≤ w.heap.size + 1 by omega) _).setCell (p := ⟨w.heap.size + 1, 2, none⟩) (show w.heap.size ≤ w.heap.size + 1 by omega) _).setCell (p := ⟨w.heap.size + 1, 3, none⟩) (show w.heap.size ≤ w.heap.size + 1 by omega) _).setCell (p := ⟨w.heap.size + 1, 4, none⟩) (show w.heap.size ≤ w.heap.size + 1 by omega) _).setCell (p := ⟨w.heap.size + 1, 5, none⟩) (show w.heap.size ≤ w.heap.size + 1 by omega) _).setCell (p := ⟨w.heap.size + 1, 6, none⟩) (show w.heap.size ≤ w.heap.size + 1 by omega) _).setCell (p := ⟨w.heap.size + 1, 7, none⟩) (show w.heap.size ≤ w.heap.size + 1 by omega) _).setCell (p := ⟨w.heap.size + 1, 8, none⟩) (show w.heap.size ≤ w.heap.size + 1 by omega) _).setCell (p := ⟨w.heap.size + 1, 9, none⟩) (show w.heap.size ≤ w.heap.size + 1 by omega) _).setCell (p := ⟨w.heap.size + 1, 10, none⟩) (show w.heap.size ≤ w.heap.size + 1 by omega) _).setCell (p := ⟨w.heap.size + 1, 11, none⟩) (show w.heap.size ≤ w.heap.size + 1 by omega) _).setCell (p := ⟨w.heap.size + 1, 12, none⟩) (show w.heap.size ≤ w.heap.size + 1 by omega) _).setCell (p := ⟨w.heap.size + 1 + 1, 0, none⟩) (show w.heap.size ≤ w.heap.size + 1 + 1 by omega) _).setCell (p := ⟨w.heap.size + 1 + 1, 1, none⟩) (show w.heap.size ≤ w.heap.size + 1 + 1 by omega) _).setCell (p := ⟨w.heap.size + 1 + 1, 2, none⟩) (show w.heap.size ≤ w.heap.size + 1 + 1 by omega) _).setCell (p := ⟨w.heap.size + 1 + 1, 3, none⟩) (show w.heap.size ≤ w.heap.size + 1 + 1 by omega) _).setCell (p := ⟨w.heap.size + 1 + 1, 4, none⟩) (show w.heap.size ≤ w.heap.size + 1 + 1 by omega) _).setCell (p := ⟨w.heap.size + 1 + 1, 5, none⟩) (show w.heap.size ≤ w.heap.size + 1 + 1 by omega) _).setCell (p := ⟨w.heap.size + 1 + 1, 6, none⟩) (show w.heap.size ≤ w.heap.size + 1 + 1 by omega) _).setCell (p := ⟨w.heap.size + 1 + 1, 7, none⟩) (show w.heap.size ≤ w.heap.size + 1 + 1 by omega) _).setCell (p := ⟨w.heap.size + 1 + 1, 8, none⟩) (show w.heap.size ≤ w.heap.size + 1 + 1 by omega) _).setCell (p := ⟨w.heap.size + 1 + 1, 9, none⟩) (show w.heap.size ≤ w.heap.size + 1 + 1 by omega) _).setCell (p := ⟨w.heap.size + 1 + 1, 10, none⟩) (show w.heap.size ≤ w.heap.size + 1 + 1 by omega) _).setCell (p := ⟨w.heap.size + 1 + 1, 11, none⟩) (show w.heap.size ≤ w.heap.size + 1 + 1 by omega) _).setCell (p := ⟨w.heap.size + 1 + 1, 12, none⟩) (show w.heap.size ≤ w.heap.size + 1 + 1 by omega) _)⟩

end Go.Proofs.YtjjaemobgfconaaDoor
