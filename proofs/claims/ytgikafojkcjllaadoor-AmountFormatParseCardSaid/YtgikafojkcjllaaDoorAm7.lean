/-
  The example of the chapter (the statements' 'known') holds at this translation, in every world.
-/
import Derived.Test.YtgikafojkcjllaaDoorAm6
import Derived.Lib.ItoaNum
import Derived.Laws.BytesArg
import Derived.Laws.IdiomStrings
namespace Go.Proofs.YtgikafojkcjllaaDoor
open Go.RowKit

theorem dec1 : Lib.decDigits 1 = [49] := by simp [Lib.decDigits]

/-- The string of a slice of two bytes that was just made. -/
theorem conv2 (W : World) (x y : Int) : (convert 36 9 (.slice (some ⟨W.heap.size, 0, none⟩) 2 2)).run Tryd.prog (W.alloc (.cells #[.int .u8 x, .int .u8 y] 5)) =
    .ok (.string ⟨#[UInt8.ofNat x.toNat, UInt8.ofNat y.toNat]⟩) (W.alloc (.cells #[.int .u8 x, .int .u8 y] 5)) := by
  refine run_convert_bytes_arg _ 36 5 Tryd.underlying36 Tryd.underlying5 W.heap.size 0 2 2 [x, y] rfl (fun i hi => ?_) 9 Tryd.underlying9
  have : i = 0 ∨ i = 1 := by omega
  rcases this with rfl | rfl <;> simp [World.cell?_alloc_new]

theorem fu50_small (i : Nat) (h : i < 100) (w : World) : Calls Tryd.prog 23 #[.int .u64 i, .int .i64 10] w fun e w' => e = .returned (.string ⟨(Lib.decDigits i).toArray⟩) ∧ w = w' := by
  have sm := fun w => hide (Tryd.internal_strconv_small i h w)
  have h1 : (i : Int) < 100 := by omega
  go_enter Tryd.func23, Tryd.ntmps23
  go_wp2_with fail
  refine (sm _).out.mono ?_
  rintro e w' ⟨rfl, rfl⟩
  go_wp2_with fail
  go_ret
  exact ⟨rfl, rfl⟩
theorem fu_small (i : Nat) (h : i < 100) (w : World) : Calls Tryd.prog 12 #[.int .u64 i, .int .i64 10] w fun e w' => e = .returned (.string ⟨(Lib.decDigits i).toArray⟩) ∧ w = w' := by
  have sm := fun w => hide (fu50_small i h w)
  go_enter Tryd.func12, Tryd.ntmps12
  go_wp2_with fail
  refine (sm _).out.mono ?_
  rintro e w' ⟨rfl, rfl⟩
  go_wp2_with fail
  go_ret
  exact ⟨rfl, rfl⟩

set_option maxRecDepth 10000 in
theorem fmt_known (w : World) :
    Calls Tryd.prog 5 #[.int .i64 (-150)] w fun e w' => e = .returned (.tuple #[.string ⟨#[45, 49, 46, 53, 48]⟩, .int .i64 0]) ∧ Below w.heap.size w w' := by
  have b := okB_yes (x := -150) (by unfold okA; omega)
  have hcv := conv2 w 53 48
  have sm := fun w => hide (fu_small 1 (by omega) w)
  rw [dec1] at sm
  go_enter Tryd.func5, Tryd.ntmps5
  go_wp2_with fail
  refine (valid_any _ _).mono ?_
  rintro e w' ⟨rfl, rfl⟩
  go_wp2_with fail
  refine (mag_any _ _ (by omega) (by omega)).mono ?_
  rintro e w' ⟨rfl, rfl⟩
  go_wp2_with fail
  refine (sm _).out.mono ?_
  rintro e w' ⟨rfl, rfl⟩
  go_wp2_with fail
  go_ret2
  exact ⟨rfl, (Below.refl _ _).alloc (Nat.le_refl _) _⟩

theorem divfor_7 : DivFor 7 1 2 := fun _ => div_small 7 2 (by decide) (by decide) (by decide) (by decide)
theorem divfor_n7 : DivFor (-7) 1 2 := fun _ => div_small 7 2 (by decide) (by decide) (by decide) (by decide)
theorem md_at {x num den m v : Int} (D : DivFor x num den) (hv : mdV x num den m = v) (he : mdE x num den m = 0) (w : World) :
    Calls Tryd.prog 16 #[.int .i64 x, .int .i64 num, .int .i64 den, .int .i64 m] w fun e w' => e = .returned (.tuple #[.int .i64 v, .int .i64 0]) ∧ Below w.heap.size w w' := by
  have h := muldiv_any x num den m w D
  rwa [hv, he] at h
theorem md70 (w : World) : Calls Tryd.prog 16 #[.int .i64 7, .int .i64 1, .int .i64 2, .int .i64 0] w fun e w' => e = .returned (.tuple #[.int .i64 3, .int .i64 0]) ∧ Below w.heap.size w w' :=
  md_at divfor_7 (by decide) (by decide) w
theorem md71 (w : World) : Calls Tryd.prog 16 #[.int .i64 7, .int .i64 1, .int .i64 2, .int .i64 1] w fun e w' => e = .returned (.tuple #[.int .i64 4, .int .i64 0]) ∧ Below w.heap.size w w' :=
  md_at divfor_7 (by decide) (by decide) w
theorem md72 (w : World) : Calls Tryd.prog 16 #[.int .i64 7, .int .i64 1, .int .i64 2, .int .i64 2] w fun e w' => e = .returned (.tuple #[.int .i64 4, .int .i64 0]) ∧ Below w.heap.size w w' :=
  md_at divfor_7 (by decide) (by decide) w
theorem md73 (w : World) : Calls Tryd.prog 16 #[.int .i64 7, .int .i64 1, .int .i64 2, .int .i64 3] w fun e w' => e = .returned (.tuple #[.int .i64 3, .int .i64 0]) ∧ Below w.heap.size w w' :=
  md_at divfor_7 (by decide) (by decide) w
theorem mdn0 (w : World) : Calls Tryd.prog 16 #[.int .i64 (-7), .int .i64 1, .int .i64 2, .int .i64 0] w fun e w' => e = .returned (.tuple #[.int .i64 (-4), .int .i64 0]) ∧ Below w.heap.size w w' :=
  md_at divfor_n7 (by decide) (by decide) w
theorem mdn1 (w : World) : Calls Tryd.prog 16 #[.int .i64 (-7), .int .i64 1, .int .i64 2, .int .i64 1] w fun e w' => e = .returned (.tuple #[.int .i64 (-3), .int .i64 0]) ∧ Below w.heap.size w w' :=
  md_at divfor_n7 (by decide) (by decide) w
theorem mdn2 (w : World) : Calls Tryd.prog 16 #[.int .i64 (-7), .int .i64 1, .int .i64 2, .int .i64 2] w fun e w' => e = .returned (.tuple #[.int .i64 (-4), .int .i64 0]) ∧ Below w.heap.size w w' :=
  md_at divfor_n7 (by decide) (by decide) w
theorem mdn3 (w : World) : Calls Tryd.prog 16 #[.int .i64 (-7), .int .i64 1, .int .i64 2, .int .i64 3] w fun e w' => e = .returned (.tuple #[.int .i64 (-3), .int .i64 0]) ∧ Below w.heap.size w w' :=
  md_at divfor_n7 (by decide) (by decide) w
theorem mr_known (w : World) : Calls Tryd.prog 17 #[.int .i64 (-7), .int .i64 1, .int .i64 2] w fun e w' => e = .returned (.tuple #[.int .i64 (-4), .int .i64 1, .int .i64 0]) ∧ Below w.heap.size w w' :=
  mulrem_any (-7) 1 2 w divfor_n7

/-- The table of the example lies in block b. -/
def Wants (b : Nat) (w : World) : Prop := w.cell? ⟨b, 0, none⟩ = some (.int .i64 3) ∧ w.cell? ⟨b, 1, none⟩ = some (.int .i64 4) ∧ w.cell? ⟨b, 2, none⟩ = some (.int .i64 4) ∧ w.cell? ⟨b, 3, none⟩ = some (.int .i64 3) ∧ w.cell? ⟨b, 4, none⟩ = some (.int .i64 (-4)) ∧ w.cell? ⟨b, 5, none⟩ = some (.int .i64 (-3)) ∧ w.cell? ⟨b, 6, none⟩ = some (.int .i64 (-4)) ∧ w.cell? ⟨b, 7, none⟩ = some (.int .i64 (-3))
theorem Wants.keep {b : Nat} {w w' : World} (h : Wants b w) (hb : Below w.heap.size w w') (hlt : b < w.heap.size) : Wants b w' := by
  obtain ⟨h0, h1, h2, h3, h4, h5, h6, h7⟩ := h
  refine ⟨?_, ?_, ?_, ?_, ?_, ?_, ?_, ?_⟩ <;> (rw [hb.cell (by exact hlt)]; assumption)
theorem wants_new (w : World) : Wants w.heap.size (w.alloc (.cells #[.int .i64 3, .int .i64 4, .int .i64 4, .int .i64 3, .int .i64 (-4), .int .i64 (-3), .int .i64 (-4), .int .i64 (-3)] 41)) := by
  refine ⟨?_, ?_, ?_, ?_, ?_, ?_, ?_, ?_⟩ <;> simp [World.cell?_alloc_new]

set_option maxHeartbeats 1000000 in
theorem known_any (w : World) : Calls Tryd.prog 7 #[] w fun e w' => e = .returned (.bool true) ∧ Below w.heap.size w w' := by
  have HW := hide (wants_new w)
  go_enter Tryd.func7, Tryd.ntmps7
  go_wp2_with fail
  go_loopw [2] (fun m wr => ∃ k : Nat, k ≤ 4 ∧ m = .int .i64 k ∧ Hid (Below w.heap.size w wr) ∧ w.heap.size < wr.heap.size ∧ Hid (Wants w.heap.size wr)) (fun m _ => 4 - (intOf m).toNat)
  case atStart => exact ⟨0, by decide, rfl, hide ((Below.refl _ _).alloc (Nat.le_refl _) _), by simp, HW⟩
  case round =>
    obtain ⟨k, hk, rfl, HB, hlt, HC⟩ := hrel
    have h5 : k = 0 ∨ k = 1 ∨ k = 2 ∨ k = 3 ∨ k = 4 := by omega
    rcases h5 with rfl | rfl | rfl | rfl | rfl
    · go_wp2_with fail
      refine (md70 _).mono ?_
      rintro e w1 ⟨rfl, hb1⟩
      have hlt1 : w.heap.size < w1.heap.size := Nat.lt_of_lt_of_le hlt hb1.size
      have HC1 := hide (HC.out.keep hb1 hlt)
      have HB1 := hide (HB.out.trans (hb1.mono (Nat.le_of_lt hlt)))
      clear hb1
      go_wp2_with fail
      refine (mdn0 _).mono ?_
      rintro e w2 ⟨rfl, hb2⟩
      have hlt2 : w.heap.size < w2.heap.size := Nat.lt_of_lt_of_le hlt1 hb2.size
      obtain ⟨h0, h1, h2, h3, h4, h5, h6, h7⟩ := HC1.out.keep hb2 hlt1
      have HC2 := hide (HC1.out.keep hb2 hlt1)
      have HB2 := hide (HB1.out.trans (hb2.mono (Nat.le_of_lt hlt1)))
      clear hb2
      go_wp2_with fail
      go_roundw
      case rel => exact ⟨1, by decide, rfl, HB2, hlt2, HC2⟩
      case measure => simp [intOf]
    · go_wp2_with fail
      refine (md71 _).mono ?_
      rintro e w1 ⟨rfl, hb1⟩
      have hlt1 : w.heap.size < w1.heap.size := Nat.lt_of_lt_of_le hlt hb1.size
      have HC1 := hide (HC.out.keep hb1 hlt)
      have HB1 := hide (HB.out.trans (hb1.mono (Nat.le_of_lt hlt)))
      clear hb1
      go_wp2_with fail
      refine (mdn1 _).mono ?_
      rintro e w2 ⟨rfl, hb2⟩
      have hlt2 : w.heap.size < w2.heap.size := Nat.lt_of_lt_of_le hlt1 hb2.size
      obtain ⟨h0, h1, h2, h3, h4, h5, h6, h7⟩ := HC1.out.keep hb2 hlt1
      have HC2 := hide (HC1.out.keep hb2 hlt1)
      have HB2 := hide (HB1.out.trans (hb2.mono (Nat.le_of_lt hlt1)))
      clear hb2
      go_wp2_with fail
      go_roundw
      case rel => exact ⟨2, by decide, rfl, HB2, hlt2, HC2⟩
      case measure => simp [intOf]
    · go_wp2_with fail
      refine (md72 _).mono ?_
      rintro e w1 ⟨rfl, hb1⟩
      have hlt1 : w.heap.size < w1.heap.size := Nat.lt_of_lt_of_le hlt hb1.size
      have HC1 := hide (HC.out.keep hb1 hlt)
      have HB1 := hide (HB.out.trans (hb1.mono (Nat.le_of_lt hlt)))
      clear hb1
      go_wp2_with fail
      refine (mdn2 _).mono ?_
      rintro e w2 ⟨rfl, hb2⟩
      have hlt2 : w.heap.size < w2.heap.size := Nat.lt_of_lt_of_le hlt1 hb2.size
      obtain ⟨h0, h1, h2, h3, h4, h5, h6, h7⟩ := HC1.out.keep hb2 hlt1
      have HC2 := hide (HC1.out.keep hb2 hlt1)
      have HB2 := hide (HB1.out.trans (hb2.mono (Nat.le_of_lt hlt1)))
      clear hb2
      go_wp2_with fail
      go_roundw
      case rel => exact ⟨3, by decide, rfl, HB2, hlt2, HC2⟩
      case measure => simp [intOf]
    · go_wp2_with fail
      refine (md73 _).mono ?_
      rintro e w1 ⟨rfl, hb1⟩
      have hlt1 : w.heap.size < w1.heap.size := Nat.lt_of_lt_of_le hlt hb1.size
      have HC1 := hide (HC.out.keep hb1 hlt)
      have HB1 := hide (HB.out.trans (hb1.mono (Nat.le_of_lt hlt)))
      clear hb1
      go_wp2_with fail
      refine (mdn3 _).mono ?_
      rintro e w2 ⟨rfl, hb2⟩
      have hlt2 : w.heap.size < w2.heap.size := Nat.lt_of_lt_of_le hlt1 hb2.size
      obtain ⟨h0, h1, h2, h3, h4, h5, h6, h7⟩ := HC1.out.keep hb2 hlt1
      have HC2 := hide (HC1.out.keep hb2 hlt1)
      have HB2 := hide (HB1.out.trans (hb2.mono (Nat.le_of_lt hlt1)))
      clear hb2
      go_wp2_with fail
      go_roundw
      case rel => exact ⟨4, by decide, rfl, HB2, hlt2, HC2⟩
      case measure => simp [intOf]
    · go_wp2_with fail
      refine (mr_known _).mono ?_
      rintro e w1 ⟨rfl, hb1⟩
      have HB1 := hide (HB.out.trans (hb1.mono (Nat.le_of_lt hlt)))
      have hlt1 : w.heap.size < w1.heap.size := Nat.lt_of_lt_of_le hlt hb1.size
      clear hb1
      go_wp2_with fail
      refine (fmt_known _).mono ?_
      rintro e w2 ⟨rfl, hb2⟩
      have HB2 := hide (HB1.out.trans (hb2.mono (Nat.le_of_lt hlt1)))
      clear hb2
      go_wp2_with fail
      go_ret
      exact ⟨rfl, HB2.out⟩
end Go.Proofs.YtgikafojkcjllaaDoor
