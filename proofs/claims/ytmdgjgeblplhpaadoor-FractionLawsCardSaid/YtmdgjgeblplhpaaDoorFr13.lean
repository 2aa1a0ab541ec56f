/-
  The example of the chapter on Split at this translation: ten in three equal shares.
-/
import Derived.Test.YtmdgjgeblplhpaaDoorFr12
import Derived.Test.YtmdgjgeblplhpaaDoorShelf
import Derived.Lib.LaidTab
import Derived.Lib.SmallJoins
import Derived.Lib.ItoaNum
import Derived.Laws.IdiomStrings
namespace Go.Proofs.YtmdgjgeblplhpaaDoor
open Go.RowKit
set_option linter.unusedVariables false

/-- A row of three numbers. -/
def Row3 (b : Nat) (x0 x1 x2 : Int) (w : World) : Prop := w.cell? ⟨b, 0, none⟩ = some (.int .i64 x0) ∧ w.cell? ⟨b, 1, none⟩ = some (.int .i64 x1) ∧ w.cell? ⟨b, 2, none⟩ = some (.int .i64 x2)
def Free3 (b : Nat) (w : World) : Prop := w.frozen? ⟨b, 0, none⟩ = false ∧ w.frozen? ⟨b, 1, none⟩ = false ∧ w.frozen? ⟨b, 2, none⟩ = false
theorem Row3.keep {b : Nat} {x0 x1 x2 : Int} {w w' : World} (h : Row3 b x0 x1 x2 w) (hb : Below w.heap.size w w') (hlt : b < w.heap.size) : Row3 b x0 x1 x2 w' := by
  obtain ⟨h0, h1, h2⟩ := h
  refine ⟨?_, ?_, ?_⟩ <;> (rw [hb.cell (by exact hlt)]; assumption)
theorem Free3.keep {b : Nat} {w w' : World} (h : Free3 b w) (hb : Below w.heap.size w w') (hlt : b < w.heap.size) : Free3 b w' := by
  obtain ⟨h0, h1, h2⟩ := h
  refine ⟨?_, ?_, ?_⟩ <;> (rw [hb.frozen (by exact hlt)]; assumption)

theorem sum3 (b : Nat) (w : World) (h : Row3 b 1 1 1 w) : Calls Tryd.prog 43 #[.slice (some ⟨b, 0, none⟩) 3 3] w fun e w' => e = .returned (.tuple #[.int .i64 3, .int .i64 0]) ∧ w = w' := by
  obtain ⟨c0, c1, c2⟩ := h
  have V := fun w => hide (valid_any 1 w)
  rw [okB_yes (by unfold okA; omega)] at V
  go_enter Tryd.func43, Tryd.ntmps43
  go_wp2_with fail
  go_loop [4, 15] (fun s i => ∃ k : Nat, k ≤ 3 ∧ i = .int .i64 k ∧ s = .int .i64 k) (fun _ i => 3 - (intOf i).toNat)
  case atStart => exact ⟨0, by decide, rfl, rfl⟩
  case round =>
    obtain ⟨k, hk, rfl, rfl⟩ := hrel
    have h4 : k = 0 ∨ k = 1 ∨ k = 2 ∨ k = 3 := by omega
    rcases h4 with rfl | rfl | rfl | rfl
    · go_wp2_with fail
      refine (V _).out.mono ?_
      rintro e w' ⟨rfl, rfl⟩
      go_wp2_with fail
      go_round
      case rel => exact ⟨1, by decide, rfl, rfl⟩
      case measure => simp [intOf]
    · go_wp2_with fail
      refine (V _).out.mono ?_
      rintro e w' ⟨rfl, rfl⟩
      go_wp2_with fail
      go_round
      case rel => exact ⟨2, by decide, rfl, rfl⟩
      case measure => simp [intOf]
    · go_wp2_with fail
      refine (V _).out.mono ?_
      rintro e w' ⟨rfl, rfl⟩
      go_wp2_with fail
      go_round
      case rel => exact ⟨3, by decide, rfl, rfl⟩
      case measure => simp [intOf]
    · go_wp2_with fail
      go_ret2
      exact ⟨rfl, rfl⟩

theorem same3 (a b : Nat) (x0 x1 x2 : Int) (w : World) (h : Row3 a x0 x1 x2 w) (h' : Row3 b x0 x1 x2 w) : Calls Tryd.prog 28 #[.slice (some ⟨a, 0, none⟩) 3 3, .slice (some ⟨b, 0, none⟩) 3 3] w fun e w' => e = .returned (.bool true) ∧ ∃ n, w' = w.drewN n := by
  obtain ⟨c0, c1, c2⟩ := h
  obtain ⟨d0, d1, d2⟩ := h'
  go_enter Tryd.func28, Tryd.ntmps28
  go_wp2_with fail
  go_loopw [5] (fun i wr => ∃ k : Nat, k ≤ 3 ∧ i = .int .i64 k ∧ ∃ n, wr = w.drewN n) (fun i _ => 3 - (intOf i).toNat)
  case atStart => exact ⟨0, by decide, rfl, 0, rfl⟩
  case round =>
    obtain ⟨k, hk, rfl, n, rfl⟩ := hrel
    have h4 : k = 0 ∨ k = 1 ∨ k = 2 ∨ k = 3 := by omega
    rcases h4 with rfl | rfl | rfl | rfl
    · go_wp2_with fail
      go_quiet (fail)
      go_wp2_with fail
      go_roundw
      case rel => exact ⟨1, by decide, rfl, _, rfl⟩
      case measure => simp [intOf]
    · go_wp2_with fail
      go_quiet (fail)
      go_wp2_with fail
      go_roundw
      case rel => exact ⟨2, by decide, rfl, _, rfl⟩
      case measure => simp [intOf]
    · go_wp2_with fail
      go_quiet (fail)
      go_wp2_with fail
      go_roundw
      case rel => exact ⟨3, by decide, rfl, _, rfl⟩
      case measure => simp [intOf]
    · go_wp2_with fail
      go_ret
      exact ⟨rfl, n, rfl⟩

theorem mr10 (w : World) : Calls Tryd.prog 54 #[.int .i64 10, .int .i64 1, .int .i64 3] w fun e w' => e = .returned (.tuple #[.int .i64 3, .int .i64 1, .int .i64 0]) ∧ Below w.heap.size w w' :=
  mulrem_any 10 1 3 w (fun _ => div_any _ _ _ (by decide) (by decide) (by decide) (by decide) (by decide))

theorem below_grow {B : Nat} {a w : World} (h : Below B a w) (hB : B ≤ w.heap.size) (os : Array Obj) : Below B a (Go.Sort.grow w os) :=
  ⟨h.os, h.tape, h.output, by have := h.size; simp [Go.Sort.grow]; omega, fun k hk => by rw [← h.block k hk]; simp only [Go.Sort.grow]; rw [Array.getElem?_append_left (by omega)]⟩
/-- What the walks ask of the package-level tables. -/
structure Tabs (w : World) : Prop where
  pows : Lib.TabIs Tryd.prog w "internal/strconv.uint64pow10" .u64 Lib.pow10Tab
theorem gPows : Tryd.prog.globalNamed "internal/strconv.uint64pow10" = some 2 := by kernel_rfl
theorem Tabs.keep {w w' : World} (h : Tabs w) (hb : Below w.heap.size w w') : Tabs w' :=
  ⟨Go.Joins.tab_stays gPows h.pows hb (Nat.le_refl _)⟩

theorem fmt_any (n : Int) (w : World) (T : Tabs w) (h0 : -9223372036854775808 ≤ n) (h1 : n ≤ 9223372036854775807) :
    Calls Tryd.prog 45 #[.int .i64 n, .int .i64 10] w fun e w' => e = .returned (.string ⟨(Lib.itoa n).toArray⟩) ∧ Below w.heap.size w w' :=
  (Tryd.strconv_FormatInt_10 n h0 h1 w T.pows).mono fun _ _ ⟨a, k, os, b⟩ => ⟨a, by rw [b]; exact below_grow (below_draw (Below.refl _ _) k) (Nat.le_refl _) os⟩

theorem string_known (w : World) (T : Tabs w) : Calls Tryd.prog 33 #[.agg #[.int .i64 (-3), .int .i64 2]] w fun e w' => e = .returned (.string ⟨#[45, 51, 47, 50]⟩) ∧ Below w.heap.size w w' := by
  have C := fun w => hide (check_any (-3) 2 w (by decide) (by decide) (by decide) (by decide))
  rw [show ckE (-3) 2 = 0 by decide] at C
  have F1 := fun w T => hide (fmt_any (-3) w T (by decide) (by decide))
  rw [show (⟨(Lib.itoa (-3)).toArray⟩ : ByteArray) = ⟨#[45, 51]⟩ by simp [Lib.itoa, Lib.decDigits]] at F1
  have F2 := fun w T => hide (fmt_any 2 w T (by decide) (by decide))
  rw [show (⟨(Lib.itoa 2).toArray⟩ : ByteArray) = ⟨#[50]⟩ by simp [Lib.itoa, Lib.decDigits]] at F2
  have HT := hide T
  clear T
  go_enter Tryd.func33, Tryd.ntmps33
  go_wp2_with fail
  refine (C _).out.mono ?_
  rintro e w1 ⟨rfl, hb⟩
  have c0 := (hb.cell (p := ⟨w.heap.size, 0, none⟩) (by simp)).trans (show _ = some (Value.int .i64 (-3)) by simp [go_sem])
  have c1 := (hb.cell (p := ⟨w.heap.size, 1, none⟩) (by simp)).trans (show _ = some (Value.int .i64 2) by simp [go_sem])
  have HB1 := hide (show Below w.heap.size w w1 from ((Below.refl w.heap.size w).alloc (Nat.le_refl _) _).trans (hb.mono (by simp)))
  have sz1 : w.heap.size + 1 ≤ w1.heap.size := by have := hb.size; simp at this; omega
  clear hb
  go_wp2_with fail
  refine (F1 _ (HT.out.keep HB1.out)).out.mono ?_
  rintro e w2 ⟨rfl, hb⟩
  have c0 := (hb.cell (p := ⟨w.heap.size, 0, none⟩) (by simp; omega)).trans c0
  have c1 := (hb.cell (p := ⟨w.heap.size, 1, none⟩) (by simp; omega)).trans c1
  have HB2 := hide (HB1.out.trans (hb.mono HB1.out.size))
  clear hb
  go_wp2_with fail
  refine (F2 _ (HT.out.keep HB2.out)).out.mono ?_
  rintro e w3 ⟨rfl, hb⟩
  have HB3 := hide (HB2.out.trans (hb.mono HB2.out.size))
  clear hb
  go_wp2_with fail
  go_ret
  exact ⟨rfl, HB3.out⟩
end Go.Proofs.YtmdgjgeblplhpaaDoor
