/-
  Contracts at this translation: the reference's digits, Format and Parse.
-/
import Derived.Test.YtahfjhmgmpbmkacDoorDaG
namespace Go.Proofs.YtahfjhmgmpbmkacDoor
open Go.RowKit
set_option linter.unusedVariables false

/-- The string of a slice of one byte that was just made. -/
theorem conv1 (W : World) (x : Int) : (convert 72 9 (.slice (some ⟨W.heap.size, 0, none⟩) 1 1)).run Tryd.prog (W.alloc (.cells #[.int .u8 x] 5)) =
    .ok (.string ⟨#[UInt8.ofNat x.toNat]⟩) (W.alloc (.cells #[.int .u8 x] 5)) := by
  refine run_convert_bytes_arg _ 72 5 Tryd.underlying72 Tryd.underlying5 W.heap.size 0 1 1 [x] rfl (fun i hi => ?_) 9 Tryd.underlying9
  have : i = 0 := by omega
  subst this
  simp [World.cell?_alloc_new]
/-- A number without its last digits; its last digits. -/
def sh (n : Int) : Nat → Int
  | 0 => n
  | k + 1 => sh n k / 10
def dl (n : Int) : Nat → List UInt8
  | 0 => []
  | k + 1 => dgt (sh n k % 10) :: dl n k
theorem sh_bd (n : Int) (k : Nat) (h1 : 0 ≤ n) (h2 : n ≤ 9999) : 0 ≤ sh n k ∧ sh n k ≤ 9999 := by
  induction k with
  | zero => exact ⟨h1, h2⟩
  | succ k ih => simp only [sh]; omega
theorem dl_len (n : Int) (k : Nat) : (dl n k).length = k := by
  induction k with
  | zero => rfl
  | succ k ih => simp [dl, ih]
theorem dl4 {y : Int} (h1 : 0 ≤ y) (h2 : y ≤ 9999) : dl y 4 = d4 y := by
  simp only [dl, sh, d4]
  rw [show y / 10 / 10 / 10 % 10 = y / 1000 by omega, show y / 10 / 10 % 10 = y / 100 % 10 by omega]
theorem dl2 {x : Int} (h1 : 0 ≤ x) (h2 : x ≤ 99) : dl x 2 = [dgt (x / 10), dgt (x % 10)] := by
  simp only [dl, sh]
  rw [show x / 10 % 10 = x / 10 by omega]
theorem cat1 (b : UInt8) (l : List UInt8) : (⟨#[b]⟩ : ByteArray) ++ ⟨⟨l⟩⟩ = ⟨⟨b :: l⟩⟩ := by
  apply ByteArray.ext
  simp [ByteArray.data_append]
theorem cat (a l : List UInt8) : (⟨⟨a⟩⟩ : ByteArray) ++ ⟨⟨l⟩⟩ = ⟨⟨a ++ l⟩⟩ := by
  apply ByteArray.ext
  simp [ByteArray.data_append]

set_option maxRecDepth 20000 in
theorem rdig_any (n : Int) (many : Nat) (w : World) (h1 : 0 ≤ n) (h2 : n ≤ 9999) (h4 : many ≤ 4) :
    Calls Tryd.prog 52 #[.int .i64 n, .int .i64 (many : Int)] w fun e w' => e = .returned (.string ⟨⟨dl n many⟩⟩) ∧ Below w.heap.size w w' := by
  have HB := hide (Below.refl w.heap.size w)
  go_enter Tryd.func52, Tryd.ntmps52
  go_wp2_with fail
  go_loopw [0, 5, 6] (fun n' s i wr => ∃ k : Nat, k ≤ many ∧ i = .int .i64 k ∧ n' = .int .i64 (sh n k) ∧ s = .string ⟨⟨dl n k⟩⟩ ∧ Hid (Below w.heap.size w wr)) (fun _n _s i _ => many - (intOf i).toNat)
  case atStart => exact ⟨0, Nat.zero_le _, rfl, rfl, rfl, HB⟩
  case round =>
    obtain ⟨k, hk, rfl, rfl, rfl, B⟩ := hrel
    by_cases hlt : k < many
    · have hlt1 : k + 1 ≤ many := hlt
      obtain ⟨b1, b2⟩ := sh_bd n k h1 h2
      have hcv := conv1 wr (48 + sh n k % 10)
      have e3 : (IntKind.u8.wrap (48 + sh n k % 10)) = 48 + sh n k % 10 := by simp [IntKind.wrap, IntKind.bits, IntKind.signed]; omega
      have q1 := hide (show sh n (k + 1) = sh n k / 10 from rfl)
      have q2 := hide (show (⟨#[UInt8.ofNat (48 + sh n k % 10).toNat]⟩ : ByteArray) ++ ⟨⟨dl n k⟩⟩ = ⟨⟨dl n (k + 1)⟩⟩ from cat1 _ _)
      have z : (⟨⟨dl n k⟩⟩ : ByteArray).size = k := dl_len n k
      have A : ∀ W : World, (Op.stringOp .add ⟨#[UInt8.ofNat (48 + sh n k % 10).toNat]⟩ ⟨⟨dl n k⟩⟩).run Tryd.prog W = .ok (.string ((⟨#[UInt8.ofNat (48 + sh n k % 10).toNat]⟩ : ByteArray) ++ ⟨⟨dl n k⟩⟩)) W := fun W => run_string_add_sum W _ _ (by rw [z]; show 1 + k ≤ 9223372036854775807; omega)
      have BB := hide (B.out.alloc B.out.size (.cells #[.int .u8 (48 + sh n k % 10)] 5))
      obtain ⟨S1, hS1⟩ : ∃ S : ByteArray, S = ⟨⟨dl n (k + 1)⟩⟩ := ⟨_, rfl⟩
      rw [q2.out, ← hS1] at A
      have HS := hide hS1
      clear hS1
      generalize sh n k = x at *
      generalize (⟨⟨dl n k⟩⟩ : ByteArray) = S0 at *
      generalize (⟨#[UInt8.ofNat (48 + x % 10).toNat]⟩ : ByteArray) = SB at *
      clear z q2 hlt
      go_wp2_with fail
      go_roundw
      case rel => exact ⟨k + 1, hlt1, by go_num, by rw [q1.out], by rw [HS.out], BB⟩
      case measure => simp [intOf]; omega
    · obtain rfl : k = many := by omega
      go_wp2_with fail
      go_ret
      exact ⟨rfl, B.out⟩

theorem rd_keep (w : World) (g : Nat) (y m d x : Int) (many : Nat) (W : World) (x1 : 0 ≤ x) (x2 : x ≤ 9999) (h4 : many ≤ 4)
    (c0 : W.cell? ⟨g, 0, none⟩ = some (.int .i64 y)) (c1 : W.cell? ⟨g, 1, none⟩ = some (.int .i64 m)) (c2 : W.cell? ⟨g, 2, none⟩ = some (.int .i64 d)) (K : Hid (Keep w g W)) :
    Calls Tryd.prog 52 #[.int .i64 x, .int .i64 (many : Int)] W fun e w' => e = .returned (.string ⟨⟨dl x many⟩⟩) ∧ w'.cell? ⟨g, 0, none⟩ = some (.int .i64 y) ∧ w'.cell? ⟨g, 1, none⟩ = some (.int .i64 m) ∧ w'.cell? ⟨g, 2, none⟩ = some (.int .i64 d) ∧ Hid (Keep w g w') := by
  obtain ⟨hb, T, hg, hwg⟩ := K.out
  refine (rdig_any x many W x1 x2 h4).mono ?_
  rintro e w' ⟨rfl, hB⟩
  refine ⟨rfl, (hB.cell (p := ⟨g, 0, none⟩) hg).trans c0, (hB.cell (p := ⟨g, 1, none⟩) hg).trans c1, (hB.cell (p := ⟨g, 2, none⟩) hg).trans c2, hide ⟨hb.trans (hB.mono hb.size), T.keep hB, Nat.lt_of_lt_of_le hg hB.size, hwg⟩⟩

set_option maxHeartbeats 4000000 in
theorem rfm_in (n y : Int) (k : Nat) (w : World) (T : Tabs w) (h : InMonth n y k) :
    Calls Tryd.prog 37 #[.int .i64 n] w fun e w' => e = .returned (.string ⟨⟨txt y ((k : Int) + 1) (n - NY y - cum y k + 1)⟩⟩) ∧ Below w.heap.size w w' := by
  have c := hide (rto_in n y k w h)
  obtain ⟨i1, i2, i3, i4, i5, i6⟩ := in2_of h
  clear h
  obtain ⟨D, hD⟩ : ∃ D, D = n - NY y - cum y k + 1 := ⟨_, rfl⟩
  obtain ⟨M, hM⟩ : ∃ M, M = (k : Int) + 1 := ⟨_, rfl⟩
  rw [← hD] at c i5 i6 ⊢
  rw [← hM] at c i3 i4 ⊢
  clear hD hM
  have htx : (((((⟨⟨dl y 4⟩⟩ : ByteArray) ++ ⟨#[45]⟩) ++ ⟨⟨dl M 2⟩⟩) ++ ⟨#[45]⟩) ++ ⟨⟨dl D 2⟩⟩) = ⟨⟨txt y M D⟩⟩ := by
    rw [dl4 i1 i2, dl2 i3 i4, dl2 i5 i6]
    apply ByteArray.ext
    simp [ByteArray.data_append, d4, txt]
  have HG0 := hide htx
  clear htx
  go_enter Tryd.func37, Tryd.ntmps37
  go_wp2_with fail
  refine c.out.mono ?_
  rintro e w1 ⟨rfl, hb⟩
  have KK : Hid (Keep w w1.heap.size (w1.alloc (.cells #[.int .i64 y, .int .i64 M, .int .i64 D] 32))) := hide ⟨hb.alloc hb.size _, (T.keep hb).keep ((Below.refl _ _).alloc (Nat.le_refl _) _), by simp, hb.size⟩
  have f0 : (w1.alloc (.cells #[.int .i64 y, .int .i64 M, .int .i64 D] 32)).cell? ⟨w1.heap.size, 0, none⟩ = some (.int .i64 y) := by simp [go_sem]
  have f1 : (w1.alloc (.cells #[.int .i64 y, .int .i64 M, .int .i64 D] 32)).cell? ⟨w1.heap.size, 1, none⟩ = some (.int .i64 M) := by simp [go_sem]
  have f2 : (w1.alloc (.cells #[.int .i64 y, .int .i64 M, .int .i64 D] 32)).cell? ⟨w1.heap.size, 2, none⟩ = some (.int .i64 D) := by simp [go_sem]
  clear hb
  go_wp2_with fail
  generalize w1.alloc (.cells #[.int .i64 y, .int .i64 M, .int .i64 D] 32) = W at *
  generalize w1.heap.size = g at *
  have f0' : W.drew.cell? ⟨g, 0, none⟩ = some (.int .i64 y) := f0
  have f1' : W.drew.cell? ⟨g, 1, none⟩ = some (.int .i64 M) := f1
  have f2' : W.drew.cell? ⟨g, 2, none⟩ = some (.int .i64 D) := f2
  have K' : Hid (Keep w g W.drew) := hide ⟨KK.out.1.drew, KK.out.2.1.drew, KK.out.2.2.1, KK.out.2.2.2⟩
  have ity : ∀ (W : World) (a : W.cell? ⟨g, 0, none⟩ = some (.int .i64 y)) (b : W.cell? ⟨g, 1, none⟩ = some (.int .i64 M)) (c : W.cell? ⟨g, 2, none⟩ = some (.int .i64 D)) (K : Hid (Keep w g W)), Calls Tryd.prog 52 #[.int .i64 y, .int .i64 4] W fun e w' => e = .returned (.string ⟨⟨dl y 4⟩⟩) ∧ w'.cell? ⟨g, 0, none⟩ = some (.int .i64 y) ∧ w'.cell? ⟨g, 1, none⟩ = some (.int .i64 M) ∧ w'.cell? ⟨g, 2, none⟩ = some (.int .i64 D) ∧ Hid (Keep w g w') := fun W a b c d => rd_keep w g y M D y 4 W (by omega) (by omega) (by omega) a b c d
  have itm : ∀ (W : World) (a : W.cell? ⟨g, 0, none⟩ = some (.int .i64 y)) (b : W.cell? ⟨g, 1, none⟩ = some (.int .i64 M)) (c : W.cell? ⟨g, 2, none⟩ = some (.int .i64 D)) (K : Hid (Keep w g W)), Calls Tryd.prog 52 #[.int .i64 M, .int .i64 2] W fun e w' => e = .returned (.string ⟨⟨dl M 2⟩⟩) ∧ w'.cell? ⟨g, 0, none⟩ = some (.int .i64 y) ∧ w'.cell? ⟨g, 1, none⟩ = some (.int .i64 M) ∧ w'.cell? ⟨g, 2, none⟩ = some (.int .i64 D) ∧ Hid (Keep w g w') := fun W a b c d => rd_keep w g y M D M 2 W (by omega) (by omega) (by omega) a b c d
  have itd : ∀ (W : World) (a : W.cell? ⟨g, 0, none⟩ = some (.int .i64 y)) (b : W.cell? ⟨g, 1, none⟩ = some (.int .i64 M)) (c : W.cell? ⟨g, 2, none⟩ = some (.int .i64 D)) (K : Hid (Keep w g W)), Calls Tryd.prog 52 #[.int .i64 D, .int .i64 2] W fun e w' => e = .returned (.string ⟨⟨dl D 2⟩⟩) ∧ w'.cell? ⟨g, 0, none⟩ = some (.int .i64 y) ∧ w'.cell? ⟨g, 1, none⟩ = some (.int .i64 M) ∧ w'.cell? ⟨g, 2, none⟩ = some (.int .i64 D) ∧ Hid (Keep w g w') := fun W a b c d => rd_keep w g y M D D 2 W (by omega) (by omega) (by omega) a b c d
  have l1 : (⟨⟨dl y 4⟩⟩ : ByteArray).size = 4 := dl_len y 4
  have l2 : (⟨⟨dl M 2⟩⟩ : ByteArray).size = 2 := dl_len M 2
  have l3 : (⟨⟨dl D 2⟩⟩ : ByteArray).size = 2 := dl_len D 2
  have l4 : (⟨#[45]⟩ : ByteArray).size = 1 := rfl
  generalize (⟨⟨dl y 4⟩⟩ : ByteArray) = S0 at *
  generalize (⟨⟨dl M 2⟩⟩ : ByteArray) = SM at *
  generalize (⟨⟨dl D 2⟩⟩ : ByteArray) = SD at *
  obtain ⟨S1, h1⟩ : ∃ S, S = S0 ++ ⟨#[45]⟩ := ⟨_, rfl⟩
  obtain ⟨S2, h2⟩ : ∃ S, S = S1 ++ SM := ⟨_, rfl⟩
  obtain ⟨S3, h3⟩ : ∃ S, S = S2 ++ ⟨#[45]⟩ := ⟨_, rfl⟩
  obtain ⟨S4, h4⟩ : ∃ S, S = S3 ++ SD := ⟨_, rfl⟩
  have HG : Hid (S4 = ⟨⟨txt y M D⟩⟩) := hide (by rw [← HG0.out, h4, h3, h2, h1])
  have z1 : S1.size = S0.size + 1 := by rw [h1, ByteArray.size_append, l4]
  have z2 : S2.size = S1.size + 2 := by rw [h2, ByteArray.size_append, l2]
  have z3 : S3.size = S2.size + 1 := by rw [h3, ByteArray.size_append, l4]
  have A1 : ∀ w, (Op.stringOp .add S0 ⟨#[45]⟩).run Tryd.prog w = .ok (.string S1) w := fun w => by rw [h1]; exact run_string_add_sum w _ _ (by omega)
  have A2 : ∀ w, (Op.stringOp .add S1 SM).run Tryd.prog w = .ok (.string S2) w := fun w => by rw [h2]; exact run_string_add_sum w _ _ (by omega)
  have A3 : ∀ w, (Op.stringOp .add S2 ⟨#[45]⟩).run Tryd.prog w = .ok (.string S3) w := fun w => by rw [h3]; exact run_string_add_sum w _ _ (by omega)
  have A4 : ∀ w, (Op.stringOp .add S3 SD).run Tryd.prog w = .ok (.string S4) w := fun w => by rw [h4]; exact run_string_add_sum w _ _ (by omega)
  clear KK c HG0 l1 l2 l3 l4 h1 h2 h3 h4 z1 z2 z3
  go_region_held3 (fun w' => w'.cell? ⟨g, 0, none⟩ = some (.int .i64 y) ∧ w'.cell? ⟨g, 1, none⟩ = some (.int .i64 M) ∧ w'.cell? ⟨g, 2, none⟩ = some (.int .i64 D)) (first | exact ⟨f0', f1', f2'⟩ | exact ⟨by assumption, by assumption, by assumption⟩) (first | (go_at_call_of 52 (Value.int .i64 y); refine (ity _ (by assumption) (by assumption) (by assumption) (by assumption)).mono ?_; rintro e w' ⟨rfl, q0, q1, q2, q3⟩) | (go_at_call_of 52 (Value.int .i64 M); refine (itm _ (by assumption) (by assumption) (by assumption) (by assumption)).mono ?_; rintro e w' ⟨rfl, q0, q1, q2, q3⟩) | (go_at_call_of 52 (Value.int .i64 D); refine (itd _ (by assumption) (by assumption) (by assumption) (by assumption)).mono ?_; rintro e w' ⟨rfl, q0, q1, q2, q3⟩))
  all_goals go_wp2_with fail
  all_goals go_ret
  all_goals exact ⟨by rw [HG.out]; rfl, q3.out.1⟩
end Go.Proofs.YtahfjhmgmpbmkacDoor
