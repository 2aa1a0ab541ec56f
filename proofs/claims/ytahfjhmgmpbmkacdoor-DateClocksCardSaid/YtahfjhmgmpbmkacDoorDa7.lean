/-
  Contracts of date.twoDigits and Format at this translation.
-/
import Derived.Test.YtahfjhmgmpbmkacDoorDa5
import Derived.Laws.BytesArg
import Derived.Lib.ItoaNum
import Derived.Lib.ItoaLen
import Derived.Deep.CutBlock
import Derived.Deep.DeepCutAuto
namespace Go.Proofs.YtahfjhmgmpbmkacDoor
open Go.RowKit
set_option linter.unusedVariables false

/-- The string of a slice of two bytes that was just made. -/
theorem conv2 (W : World) (x y : Int) : (convert 72 9 (.slice (some ⟨W.heap.size, 0, none⟩) 2 2)).run Tryd.prog (W.alloc (.cells #[.int .u8 x, .int .u8 y] 5)) =
    .ok (.string ⟨#[UInt8.ofNat x.toNat, UInt8.ofNat y.toNat]⟩) (W.alloc (.cells #[.int .u8 x, .int .u8 y] 5)) := by
  refine run_convert_bytes_arg _ 72 5 Tryd.underlying72 Tryd.underlying5 W.heap.size 0 2 2 [x, y] rfl (fun i hi => ?_) 9 Tryd.underlying9
  have : i = 0 ∨ i = 1 := by omega
  rcases this with rfl | rfl <;> simp [World.cell?_alloc_new]

/-- Two digits. -/
def dd (n : Int) : ByteArray := ⟨#[UInt8.ofNat (48 + n / 10).toNat, UInt8.ofNat (48 + n % 10).toNat]⟩
theorem dd_any (n : Int) (w : World) (h1 : 0 ≤ n) (h2 : n ≤ 99) : Calls Tryd.prog 49 #[.int .i64 n] w fun e w' => e = .returned (.string (dd n)) ∧ Below w.heap.size w w' := by
  have hcv := conv2 w (48 + n / 10) (48 + n % 10)
  have e1 : (IntKind.u8.wrap (n / 10)) = n / 10 := by simp [IntKind.wrap, IntKind.bits, IntKind.signed]; omega
  have e2 : (IntKind.u8.wrap (n % 10)) = n % 10 := by simp [IntKind.wrap, IntKind.bits, IntKind.signed]; omega
  have e3 : (IntKind.u8.wrap (48 + n / 10)) = 48 + n / 10 := by simp [IntKind.wrap, IntKind.bits, IntKind.signed]; omega
  have e4 : (IntKind.u8.wrap (48 + n % 10)) = 48 + n % 10 := by simp [IntKind.wrap, IntKind.bits, IntKind.signed]; omega
  go_enter Tryd.func49, Tryd.ntmps49
  go_wp2
  go_ret
  exact ⟨rfl, (Below.refl _ _).alloc (Nat.le_refl _) _⟩

/-- What stays through a call: the block g of a date, and the tables. -/
def Keep (w : World) (g : Nat) (W : World) : Prop := Below w.heap.size w W ∧ Tabs W ∧ g < W.heap.size ∧ w.heap.size ≤ g

theorem it_keep (w : World) (g : Nat) (y m d : Int) (W : World) (y1 : 0 ≤ y) (y2 : y ≤ 9999)
    (c0 : W.cell? ⟨g, 0, none⟩ = some (.int .i64 y)) (c1 : W.cell? ⟨g, 1, none⟩ = some (.int .i64 m)) (c2 : W.cell? ⟨g, 2, none⟩ = some (.int .i64 d)) (K : Hid (Keep w g W)) :
    Calls Tryd.prog 48 #[.int .i64 y] W fun e w' => e = .returned (.string ⟨(Lib.itoa y).toArray⟩) ∧ w'.cell? ⟨g, 0, none⟩ = some (.int .i64 y) ∧ w'.cell? ⟨g, 1, none⟩ = some (.int .i64 m) ∧ w'.cell? ⟨g, 2, none⟩ = some (.int .i64 d) ∧ Hid (Keep w g w') := by
  obtain ⟨hb, T, hg, hwg⟩ := K.out
  refine (Tryd.strconv_Itoa y (by omega) (by omega) W T.pows).mono ?_
  rintro e w' ⟨rfl, n, os, rfl⟩
  have hB : Below W.heap.size W (Go.Sort.grow (W.drewN n) os) := below_grow (below_drewN (Below.refl _ _) n) (Nat.le_refl _) os
  refine ⟨rfl, (hB.cell (p := ⟨g, 0, none⟩) hg).trans c0, (hB.cell (p := ⟨g, 1, none⟩) hg).trans c1, (hB.cell (p := ⟨g, 2, none⟩) hg).trans c2, hide ⟨hb.trans (hB.mono hb.size), T.keep hB, Nat.lt_of_lt_of_le hg hB.size, hwg⟩⟩

theorem dd_keep (w : World) (g : Nat) (y m d x : Int) (W : World) (x1 : 0 ≤ x) (x2 : x ≤ 99)
    (c0 : W.cell? ⟨g, 0, none⟩ = some (.int .i64 y)) (c1 : W.cell? ⟨g, 1, none⟩ = some (.int .i64 m)) (c2 : W.cell? ⟨g, 2, none⟩ = some (.int .i64 d)) (K : Hid (Keep w g W)) :
    Calls Tryd.prog 49 #[.int .i64 x] W fun e w' => e = .returned (.string (dd x)) ∧ w'.cell? ⟨g, 0, none⟩ = some (.int .i64 y) ∧ w'.cell? ⟨g, 1, none⟩ = some (.int .i64 m) ∧ w'.cell? ⟨g, 2, none⟩ = some (.int .i64 d) ∧ Hid (Keep w g w') := by
  obtain ⟨hb, T, hg, hwg⟩ := K.out
  refine (dd_any x W x1 x2).mono ?_
  rintro e w' ⟨rfl, hB⟩
  refine ⟨rfl, (hB.cell (p := ⟨g, 0, none⟩) hg).trans c0, (hB.cell (p := ⟨g, 1, none⟩) hg).trans c1, (hB.cell (p := ⟨g, 2, none⟩) hg).trans c2, hide ⟨hb.trans (hB.mono hb.size), T.keep hB, Nat.lt_of_lt_of_le hg hB.size, hwg⟩⟩

/-- The text of a date. -/
def fmtS (y m d : Int) : ByteArray := ((((⟨(Lib.itoa y).toArray⟩ : ByteArray) ++ ⟨#[45]⟩) ++ dd m) ++ ⟨#[45]⟩) ++ dd d

set_option maxHeartbeats 4000000 in
theorem fm_in (n y : Int) (k : Nat) (w : World) (T : Tabs w) (h : InMonth n y k) :
    Calls Tryd.prog 35 #[.int .i64 n] w fun e w' => e = .returned (.tuple #[.string (fmtS y ((k : Int) + 1) (n - NY y - cum y k + 1)), .int .i64 0]) ∧ Below w.heap.size w w' := by
  have c := hide (tc_in n y k w T h)
  have d1 : 1 ≤ n - NY y - cum y k + 1 := by have := h.c1; omega
  have d2 : n - NY y - cum y k + 1 ≤ 31 := by have := h.c2; have := (dim_bd y ((k : Int) + 1)).2; simp only [cum] at *; omega
  obtain ⟨y1, y2, _, _, k12, _, _⟩ := h
  obtain ⟨D, hD⟩ : ∃ D, D = n - NY y - cum y k + 1 := ⟨_, rfl⟩
  rw [← hD] at c d1 d2 ⊢
  clear hD
  go_enter Tryd.func35, Tryd.ntmps35
  go_wp2_with fail
  refine c.out.mono ?_
  rintro e w1 ⟨rfl, hb⟩
  have HB := hide hb
  have KK : Hid (Keep w w1.heap.size (w1.alloc (.cells #[.int .i64 y, .int .i64 ((k : Int) + 1), .int .i64 D] 26))) := hide ⟨hb.alloc hb.size _, (T.keep hb).keep ((Below.refl _ _).alloc (Nat.le_refl _) _), by simp, hb.size⟩
  have f0 : (w1.alloc (.cells #[.int .i64 y, .int .i64 ((k : Int) + 1), .int .i64 D] 26)).cell? ⟨w1.heap.size, 0, none⟩ = some (.int .i64 y) := by simp [go_sem]
  have f1 : (w1.alloc (.cells #[.int .i64 y, .int .i64 ((k : Int) + 1), .int .i64 D] 26)).cell? ⟨w1.heap.size, 1, none⟩ = some (.int .i64 ((k : Int) + 1)) := by simp [go_sem]
  have f2 : (w1.alloc (.cells #[.int .i64 y, .int .i64 ((k : Int) + 1), .int .i64 D] 26)).cell? ⟨w1.heap.size, 2, none⟩ = some (.int .i64 D) := by simp [go_sem]
  clear hb
  go_upto_region 4 with fail
  go_cut [2, 3] (fun s2 s3 wx => s2 = .string (fmtS y ((k : Int) + 1) D) ∧ s3 = .int .i64 0 ∧ Hid (Below w.heap.size w wx))
  case first =>
    generalize w1.alloc (.cells #[.int .i64 y, .int .i64 ((k : Int) + 1), .int .i64 D] 26) = W at *
    generalize w1.heap.size = g at *
    obtain ⟨M, hM⟩ : ∃ M, M = (k : Int) + 1 := ⟨_, rfl⟩
    rw [← hM] at f1 ⊢
    have M1 : 1 ≤ M := by omega
    have M2 : M ≤ 12 := by omega
    have f0' : W.drew.cell? ⟨g, 0, none⟩ = some (.int .i64 y) := f0
    have f1' : W.drew.cell? ⟨g, 1, none⟩ = some (.int .i64 M) := f1
    have f2' : W.drew.cell? ⟨g, 2, none⟩ = some (.int .i64 D) := f2
    have K' : Hid (Keep w g W.drew) := hide ⟨KK.out.1.drew, KK.out.2.1.drew, KK.out.2.2.1, KK.out.2.2.2⟩
    have it := fun W a b c d => it_keep w g y M D W (by omega) (by omega) a b c d
    have ddm := fun W a b c d => dd_keep w g y M D M W (by omega) (by omega) a b c d
    have ddd := fun W a b c d => dd_keep w g y M D D W (by omega) (by omega) a b c d
    have l1 : (⟨(Lib.itoa y).toArray⟩ : ByteArray).size ≤ 21 := by have := Lib.itoa_length_le y (by omega) (by omega); simpa [ByteArray.size] using this
    have l2 : (dd M).size = 2 := rfl
    have l3 : (dd D).size = 2 := rfl
    have l4 : (⟨#[45]⟩ : ByteArray).size = 1 := rfl
    have hfm : fmtS y ((k : Int) + 1) D = ((((⟨(Lib.itoa y).toArray⟩ : ByteArray) ++ ⟨#[45]⟩) ++ dd M) ++ ⟨#[45]⟩) ++ dd D := by rw [hM]; rfl
    have HF := hide hfm
    clear hfm
    generalize (⟨(Lib.itoa y).toArray⟩ : ByteArray) = S0 at *
    generalize dd M = SM at *
    generalize dd D = SD at *
    obtain ⟨S1, h1⟩ : ∃ S, S = S0 ++ ⟨#[45]⟩ := ⟨_, rfl⟩
    obtain ⟨S2, h2⟩ : ∃ S, S = S1 ++ SM := ⟨_, rfl⟩
    obtain ⟨S3, h3⟩ : ∃ S, S = S2 ++ ⟨#[45]⟩ := ⟨_, rfl⟩
    obtain ⟨S4, h4⟩ : ∃ S, S = S3 ++ SD := ⟨_, rfl⟩
    have HG : Hid (S4 = fmtS y ((k : Int) + 1) D) := hide (by rw [HF.out, h4, h3, h2, h1])
    have z1 : S1.size = S0.size + 1 := by rw [h1, ByteArray.size_append, l4]
    have z2 : S2.size = S1.size + 2 := by rw [h2, ByteArray.size_append, l2]
    have z3 : S3.size = S2.size + 1 := by rw [h3, ByteArray.size_append, l4]
    have A1 : ∀ w, (Op.stringOp .add S0 ⟨#[45]⟩).run Tryd.prog w = .ok (.string S1) w := fun w => by rw [h1]; exact run_string_add_sum w _ _ (by omega)
    have A2 : ∀ w, (Op.stringOp .add S1 SM).run Tryd.prog w = .ok (.string S2) w := fun w => by rw [h2]; exact run_string_add_sum w _ _ (by omega)
    have A3 : ∀ w, (Op.stringOp .add S2 ⟨#[45]⟩).run Tryd.prog w = .ok (.string S3) w := fun w => by rw [h3]; exact run_string_add_sum w _ _ (by omega)
    have A4 : ∀ w, (Op.stringOp .add S3 SD).run Tryd.prog w = .ok (.string S4) w := fun w => by rw [h4]; exact run_string_add_sum w _ _ (by omega)
    clear hM KK c HB HF k12 l1 l2 l3 l4 h1 h2 h3 h4 z1 z2 z3
    go_region_held3 (fun w' => w'.cell? ⟨g, 0, none⟩ = some (.int .i64 y) ∧ w'.cell? ⟨g, 1, none⟩ = some (.int .i64 M) ∧ w'.cell? ⟨g, 2, none⟩ = some (.int .i64 D)) (first | exact ⟨f0', f1', f2'⟩ | exact ⟨by assumption, by assumption, by assumption⟩) (first | (go_at_call 48; refine (it _ (by assumption) (by assumption) (by assumption) (by assumption)).mono ?_; rintro e w' ⟨rfl, q0, q1, q2, q3⟩) | (go_at_call_of 49 (Value.int .i64 M); refine (ddm _ (by assumption) (by assumption) (by assumption) (by assumption)).mono ?_; rintro e w' ⟨rfl, q0, q1, q2, q3⟩) | (go_at_call_of 49 (Value.int .i64 D); refine (ddd _ (by assumption) (by assumption) (by assumption) (by assumption)).mono ?_; rintro e w' ⟨rfl, q0, q1, q2, q3⟩))
    all_goals go_wp2_with fail
    all_goals go_meet
    case rel => exact ⟨by rw [HG.out], rfl, hide q3.out.1⟩
  case rest =>
    obtain ⟨rfl, rfl, BX⟩ := hcut
    go_wp2_with fail
    go_ret2
    exact ⟨rfl, BX.out⟩
end Go.Proofs.YtahfjhmgmpbmkacDoor
