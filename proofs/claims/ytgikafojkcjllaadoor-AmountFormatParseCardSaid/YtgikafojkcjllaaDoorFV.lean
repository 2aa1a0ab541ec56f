/-
  An amount's text: what Format answers at this translation.
-/
import Derived.Test.YtgikafojkcjllaaDoorFU
import Derived.Lib.ItoaLen
import Derived.Deep.Light
namespace Go.Proofs.YtgikafojkcjllaaDoor
open Go.RowKit
set_option linter.unusedVariables false
set_option linter.unusedSimpArgs false

/-- The sign, the whole part, the cents of a text. -/
def sgT (x : Int) : ByteArray := if x < 0 then ⟨#[45]⟩ else ⟨#[]⟩
def whT (A : Nat) : ByteArray := ⟨(Lib.decDigits (A / 100)).toArray⟩
def ceT (A : Nat) : ByteArray := ⟨#[UInt8.ofNat (48 + A / 10 % 10), UInt8.ofNat (48 + A % 10)]⟩
def fmtT (x : Int) : ByteArray := sgT x ++ whT x.natAbs ++ ⟨#[46]⟩ ++ ceT x.natAbs
theorem wh_size (A : Nat) (h : A < 18446744073709551616) : (whT A).size ≤ 20 := by
  unfold whT
  have h1 := Lib.nDigits_le20 (A / 100) (by omega)
  have h2 := Lib.decDigits_length (A / 100)
  simp [ByteArray.size]
  omega
theorem fmt_no (x : Int) (w : World) (h : ¬ okA x) : Calls Tryd.prog 5 #[.int .i64 x] w fun e w' => e = .returned (.tuple #[.string ⟨#[]⟩, .int .i64 2]) ∧ Below w.heap.size w w' := by
  have b := okB_no h
  go_enter Tryd.func5, Tryd.ntmps5
  go_wp2_with fail
  refine (valid_any _ _).mono ?_
  rintro e w' ⟨rfl, rfl⟩
  rw [b]
  go_wp2_with fail
  go_ret2
  exact ⟨rfl, Below.refl _ _⟩
set_option maxHeartbeats 4000000 in
set_option maxRecDepth 20000 in
theorem fmt_any (x : Int) (w : World) (ht : Pow w) (h : okA x) : Calls Tryd.prog 5 #[.int .i64 x] w fun e w' => e = .returned (.tuple #[.string (fmtT x), .int .i64 0]) ∧ Below w.heap.size w w' := by
  have b := okB_yes h
  have hA : x.natAbs ≤ 1000000000000000 := by unfold okA at h; omega
  have VA := fun w => hide (valid_any x w)
  rw [b] at VA
  have MA := fun w => hide (mag_any x w h.1 h.2)
  have e100 : ((x.natAbs / 100 : Nat) : Int) = (x.natAbs : Int) / 100 := by omega
  have FU : ∀ w, Pow w → Hid (Calls Tryd.prog 12 #[.int .u64 ((x.natAbs : Int) / 100), .int .i64 10] w fun e w' => e = .returned (.string (whT x.natAbs)) ∧ Below w.heap.size w w') := fun w ht => hide (by have k := fu_any (x.natAbs / 100) (by omega) w ht; rw [e100] at k; exact k)
  have s0 := wh_size x.natAbs (by omega)
  have sc : (ceT x.natAbs).size = 2 := rfl
  have HT := hide ht
  have cvv : (convert 36 9 (.slice (some ⟨w.heap.size, 0, none⟩) 2 2)).run Tryd.prog (w.alloc (.cells #[.int .u8 (48 + (x.natAbs : Int) / 10 % 10), .int .u8 (48 + (x.natAbs : Int) % 10)] 5)) = .ok (.string (ceT x.natAbs)) (w.alloc (.cells #[.int .u8 (48 + (x.natAbs : Int) / 10 % 10), .int .u8 (48 + (x.natAbs : Int) % 10)] 5)) := by
    rw [conv2, show (48 + (x.natAbs : Int) / 10 % 10).toNat = 48 + x.natAbs / 10 % 10 by omega, show (48 + (x.natAbs : Int) % 10).toNat = 48 + x.natAbs % 10 by omega]
    rfl
  rw [show fmtT x = sgT x ++ whT x.natAbs ++ ⟨#[46]⟩ ++ ceT x.natAbs from rfl]
  clear ht h b e100
  generalize whT x.natAbs = WH at *
  generalize ceT x.natAbs = CE at *
  generalize x.natAbs = A at *
  by_cases hx : x < 0
  · rw [show sgT x = ⟨#[45]⟩ from if_pos hx]
    have g1 : (⟨#[45]⟩ : ByteArray).size ≤ 1 := by decide
    have r1 : ∀ w : World, (Op.stringOp .add ⟨#[45]⟩ WH).run Tryd.prog w = .ok (.string (⟨#[45]⟩ ++ WH)) w := fun w => run_string_add w _ _ (by omega) (by omega)
    have z1 : (⟨#[45]⟩ ++ WH : ByteArray).size ≤ 21 := by rw [ByteArray.size_append]; omega
    generalize (⟨#[45]⟩ ++ WH : ByteArray) = T1 at *
    have r2 : ∀ w : World, (Op.stringOp .add T1 ⟨#[46]⟩).run Tryd.prog w = .ok (.string (T1 ++ ⟨#[46]⟩)) w := fun w => run_string_add w _ _ (by omega) (by decide)
    have z2 : (T1 ++ ⟨#[46]⟩ : ByteArray).size ≤ 22 := by rw [ByteArray.size_append]; have : (⟨#[46]⟩ : ByteArray).size = 1 := rfl; omega
    generalize (T1 ++ ⟨#[46]⟩ : ByteArray) = T2 at *
    have r3 : ∀ w : World, (Op.stringOp .add T2 CE).run Tryd.prog w = .ok (.string (T2 ++ CE)) w := fun w => run_string_add w _ _ (by omega) (by omega)
    generalize (T2 ++ CE : ByteArray) = T3 at *
    clear g1 z1 z2 s0 sc
    go_enter Tryd.func5, Tryd.ntmps5
    go_wp2_with fail
    refine (VA _).out.mono ?_
    rintro e w' ⟨rfl, rfl⟩
    go_wp2_with fail
    refine (MA _).out.mono ?_
    rintro e w' ⟨rfl, rfl⟩
    have HB := hide ((Below.refl w.heap.size w).alloc (Nat.le_refl _) (Obj.cells #[.int .u8 (48 + (A : Int) / 10 % 10), .int .u8 (48 + (A : Int) % 10)] 5))
    go_wp2_with fail
    refine (FU _ (Lib.tabIs_alloc HT.out _)).out.mono ?_
    rintro e w2 ⟨rfl, hb⟩
    have HR := hide (HB.out.trans (hb.mono HB.out.size))
    clear hb
    go_wp2_with fail
    go_ret2
    exact ⟨rfl, HR.out⟩
  · rw [show sgT x = ⟨#[]⟩ from if_neg hx]
    have g1 : (⟨#[]⟩ : ByteArray).size ≤ 1 := by decide
    have r1 : ∀ w : World, (Op.stringOp .add ⟨#[]⟩ WH).run Tryd.prog w = .ok (.string (⟨#[]⟩ ++ WH)) w := fun w => run_string_add w _ _ (by omega) (by omega)
    have z1 : (⟨#[]⟩ ++ WH : ByteArray).size ≤ 21 := by rw [ByteArray.size_append]; omega
    generalize (⟨#[]⟩ ++ WH : ByteArray) = T1 at *
    have r2 : ∀ w : World, (Op.stringOp .add T1 ⟨#[46]⟩).run Tryd.prog w = .ok (.string (T1 ++ ⟨#[46]⟩)) w := fun w => run_string_add w _ _ (by omega) (by decide)
    have z2 : (T1 ++ ⟨#[46]⟩ : ByteArray).size ≤ 22 := by rw [ByteArray.size_append]; have : (⟨#[46]⟩ : ByteArray).size = 1 := rfl; omega
    generalize (T1 ++ ⟨#[46]⟩ : ByteArray) = T2 at *
    have r3 : ∀ w : World, (Op.stringOp .add T2 CE).run Tryd.prog w = .ok (.string (T2 ++ CE)) w := fun w => run_string_add w _ _ (by omega) (by omega)
    generalize (T2 ++ CE : ByteArray) = T3 at *
    clear g1 z1 z2 s0 sc
    go_enter Tryd.func5, Tryd.ntmps5
    go_wp2_with fail
    refine (VA _).out.mono ?_
    rintro e w' ⟨rfl, rfl⟩
    go_wp2_with fail
    refine (MA _).out.mono ?_
    rintro e w' ⟨rfl, rfl⟩
    have HB := hide ((Below.refl w.heap.size w).alloc (Nat.le_refl _) (Obj.cells #[.int .u8 (48 + (A : Int) / 10 % 10), .int .u8 (48 + (A : Int) % 10)] 5))
    go_wp2_with fail
    refine (FU _ (Lib.tabIs_alloc HT.out _)).out.mono ?_
    rintro e w2 ⟨rfl, hb⟩
    have HR := hide (HB.out.trans (hb.mono HB.out.size))
    clear hb
    go_wp2_with fail
    go_ret2
    exact ⟨rfl, HR.out⟩
end Go.Proofs.YtgikafojkcjllaaDoor
