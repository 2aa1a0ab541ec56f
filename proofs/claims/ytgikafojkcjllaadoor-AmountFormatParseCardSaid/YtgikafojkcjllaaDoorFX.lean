/-
  The reference's Format at this translation: the same text.
-/
import Derived.Test.YtgikafojkcjllaaDoorFW
import Derived.Test.YtgikafojkcjllaaDoorRc
namespace Go.Proofs.YtgikafojkcjllaaDoor
open Go.RowKit
set_option linter.unusedVariables false
set_option linter.unusedSimpArgs false

theorem refabs_any (x : Int) (w : World) (h1 : -1000000000000000 ≤ x) (h2 : x ≤ 1000000000000000) :
    Calls Tryd.prog 14 #[.int .i64 x] w fun e w' => e = .returned (.int .i64 (x.natAbs : Int)) ∧ w = w' := by
  by_cases h : x < 0
  · go_enter Tryd.func14, Tryd.ntmps14
    go_wp2
    go_ret
    exact ⟨ret_i (by omega), rfl⟩
  · go_enter Tryd.func14, Tryd.ntmps14
    go_wp2
    go_ret
    exact ⟨ret_i (by omega), rfl⟩

theorem rfmt_no (x : Int) (w : World) (h : ¬ okA x) : Calls Tryd.prog 6 #[.int .i64 x] w fun e w' => e = .returned (.tuple #[.string ⟨#[]⟩, .int .i64 2]) ∧ Below w.heap.size w w' := by
  have b := okB_no h
  go_enter Tryd.func6, Tryd.ntmps6
  go_wp2_with fail
  refine (refvalid_any _ _).mono ?_
  rintro e w' ⟨rfl, rfl⟩
  rw [b]
  go_wp2_with fail
  go_ret2
  exact ⟨rfl, Below.refl _ _⟩
def d1T (A : Nat) : ByteArray := ⟨#[UInt8.ofNat (48 + A / 10 % 10)]⟩
def d2T (A : Nat) : ByteArray := ⟨#[UInt8.ofNat (48 + A % 10)]⟩
theorem fmtT_eq (x : Int) : fmtT x = sgT x ++ whT x.natAbs ++ ⟨#[46]⟩ ++ d1T x.natAbs ++ d2T x.natAbs := by
  unfold fmtT
  apply ByteArray.ext
  simp only [ByteArray.data_append]
  unfold ceT d1T d2T
  simp only [Array.append_assoc]
  rfl
theorem one_dig (n : Nat) (h : n < 10) (w : World) : Calls Tryd.prog 15 #[.int .i64 (n : Int)] w fun e w' => e = .returned (.string ⟨#[UInt8.ofNat (48 + n)]⟩) ∧ Below w.heap.size w w' := by
  have k := dig_any n (by omega) w
  rw [dd_small n h] at k
  exact k
set_option maxHeartbeats 4000000 in
set_option maxRecDepth 20000 in
theorem rfmt_any (x : Int) (w : World) (h : okA x) : Calls Tryd.prog 6 #[.int .i64 x] w fun e w' => e = .returned (.tuple #[.string (fmtT x), .int .i64 0]) ∧ Below w.heap.size w w' := by
  have b := okB_yes h
  have hA : x.natAbs ≤ 1000000000000000 := by unfold okA at h; omega
  have VA := fun w => hide (refvalid_any x w)
  rw [b] at VA
  have MA := fun w => hide (refabs_any x w (by unfold okA at h; omega) (by unfold okA at h; omega))
  have e100 : ((x.natAbs / 100 : Nat) : Int) = (x.natAbs : Int) / 100 := by omega
  have e10 : ((x.natAbs / 10 % 10 : Nat) : Int) = (x.natAbs : Int) / 10 % 10 := by omega
  have e1 : ((x.natAbs % 10 : Nat) : Int) = (x.natAbs : Int) % 10 := by omega
  have D0 : ∀ w, Hid (Calls Tryd.prog 15 #[.int .i64 ((x.natAbs : Int) / 100)] w fun e w' => e = .returned (.string (whT x.natAbs)) ∧ Below w.heap.size w w') := fun w => hide (by have k := dig_any (x.natAbs / 100) (by omega) w; rw [e100] at k; exact k)
  have D1 : ∀ w, Hid (Calls Tryd.prog 15 #[.int .i64 ((x.natAbs : Int) / 10 % 10)] w fun e w' => e = .returned (.string (d1T x.natAbs)) ∧ Below w.heap.size w w') := fun w => hide (by have k := one_dig (x.natAbs / 10 % 10) (by omega) w; rw [e10] at k; exact k)
  have D2 : ∀ w, Hid (Calls Tryd.prog 15 #[.int .i64 ((x.natAbs : Int) % 10)] w fun e w' => e = .returned (.string (d2T x.natAbs)) ∧ Below w.heap.size w w') := fun w => hide (by have k := one_dig (x.natAbs % 10) (by omega) w; rw [e1] at k; exact k)
  have s0 := wh_size x.natAbs (by omega)
  have c1 : (d1T x.natAbs).size = 1 := rfl
  have c2 : (d2T x.natAbs).size = 1 := rfl
  rw [fmtT_eq]
  clear h b e100 e10 e1
  generalize whT x.natAbs = WH at *
  generalize d1T x.natAbs = C1 at *
  generalize d2T x.natAbs = C2 at *
  generalize x.natAbs = A at *
  by_cases hx : x < 0
  · rw [show sgT x = ⟨#[45]⟩ from if_pos hx]
    have g1 : (⟨#[45]⟩ : ByteArray).size ≤ 1 := by decide
    have r1 : ∀ w : World, (Op.stringOp .add ⟨#[45]⟩ WH).run Tryd.prog w = .ok (.string (⟨#[45]⟩ ++ WH)) w := fun w => run_string_add w _ _ (by omega) (by omega)
    have z1 : (⟨#[45]⟩ ++ WH : ByteArray).size ≤ 21 := by rw [ByteArray.size_append]; omega
    generalize (⟨#[45]⟩ ++ WH : ByteArray) = T1 at *
    have r2 : ∀ w : World, (Op.stringOp .add T1 ⟨#[46]⟩).run Tryd.prog w = .ok (.string (T1 ++ ⟨#[46]⟩)) w := fun w => run_string_add w _ _ (by omega) (by decide)
    have z2 : (T1 ++ ⟨#[46]⟩ : ByteArray).size ≤ 22 := by rw [ByteArray.size_append]; have : (⟨#[46]⟩ : ByteArray).size = 1 := rfl; omega
    generalize (T1 ++ ⟨#[46]⟩ : ByteArray) = T2 at *
    have r3 : ∀ w : World, (Op.stringOp .add T2 C1).run Tryd.prog w = .ok (.string (T2 ++ C1)) w := fun w => run_string_add w _ _ (by omega) (by omega)
    have z3 : (T2 ++ C1 : ByteArray).size ≤ 23 := by rw [ByteArray.size_append]; omega
    generalize (T2 ++ C1 : ByteArray) = T3 at *
    have r4 : ∀ w : World, (Op.stringOp .add T3 C2).run Tryd.prog w = .ok (.string (T3 ++ C2)) w := fun w => run_string_add w _ _ (by omega) (by omega)
    generalize (T3 ++ C2 : ByteArray) = T4 at *
    clear g1 z1 z2 z3 s0 c1 c2
    go_enter Tryd.func6, Tryd.ntmps6
    go_wp2_with fail
    refine (VA _).out.mono ?_
    rintro e w' ⟨rfl, rfl⟩
    go_wp2_with fail
    refine (MA _).out.mono ?_
    rintro e w' ⟨rfl, rfl⟩
    go_wp2_with fail
    refine (D0 _).out.mono ?_
    rintro e w2 ⟨rfl, hb⟩
    have HR := hide hb
    clear hb
    go_wp2_with fail
    refine (D1 _).out.mono ?_
    rintro e w3 ⟨rfl, hb⟩
    have HR := hide (HR.out.trans (hb.mono HR.out.size))
    clear hb
    go_wp2_with fail
    refine (D2 _).out.mono ?_
    rintro e w4 ⟨rfl, hb⟩
    have HR := hide (HR.out.trans (hb.mono HR.out.size))
    clear hb
    go_wp2_with fail
    go_ret2
    exact ⟨rfl, HR.out⟩
  · rw [show sgT x = ⟨#[]⟩ from if_neg hx]
    have g1 : (⟨#[]⟩ : ByteArray).size ≤ 1 := by decide
    have r1 : ∀ w : World, (Op.stringOp .add ⟨#[]⟩ WH).run Tryd.prog w = .ok (.string (⟨#[]⟩ ++ WH)) w := fun w => run_string_add w _ _ (by omega) (by omega)
    have z1 : (⟨#[]⟩ ++ WH : ByteArray).size ≤ 21 := by rw [ByteArray.size_append]; omega
    generalize (⟨#[]⟩ ++ WH : ByteArray) = T1 at *
    have r2 : ∀ w : World, (Op.stringOp .add T1 ⟨#[46]⟩).run Tryd.prog w = .ok (.string (T1 ++ ⟨#[46]⟩)) w := fun w => run_string_add w _ _ (by omega) (by decide)
    have z2 : (T1 ++ ⟨#[46]⟩ : ByteArray).size ≤ 22 := by rw [ByteArray.size_append]; have : (⟨#[46]⟩ : ByteArray).size = 1 := rfl; omega
    generalize (T1 ++ ⟨#[46]⟩ : ByteArray) = T2 at *
    have r3 : ∀ w : World, (Op.stringOp .add T2 C1).run Tryd.prog w = .ok (.string (T2 ++ C1)) w := fun w => run_string_add w _ _ (by omega) (by omega)
    have z3 : (T2 ++ C1 : ByteArray).size ≤ 23 := by rw [ByteArray.size_append]; omega
    generalize (T2 ++ C1 : ByteArray) = T3 at *
    have r4 : ∀ w : World, (Op.stringOp .add T3 C2).run Tryd.prog w = .ok (.string (T3 ++ C2)) w := fun w => run_string_add w _ _ (by omega) (by omega)
    generalize (T3 ++ C2 : ByteArray) = T4 at *
    clear g1 z1 z2 z3 s0 c1 c2
    go_enter Tryd.func6, Tryd.ntmps6
    go_wp2_with fail
    refine (VA _).out.mono ?_
    rintro e w' ⟨rfl, rfl⟩
    go_wp2_with fail
    refine (MA _).out.mono ?_
    rintro e w' ⟨rfl, rfl⟩
    go_wp2_with fail
    refine (D0 _).out.mono ?_
    rintro e w2 ⟨rfl, hb⟩
    have HR := hide hb
    clear hb
    go_wp2_with fail
    refine (D1 _).out.mono ?_
    rintro e w3 ⟨rfl, hb⟩
    have HR := hide (HR.out.trans (hb.mono HR.out.size))
    clear hb
    go_wp2_with fail
    refine (D2 _).out.mono ?_
    rintro e w4 ⟨rfl, hb⟩
    have HR := hide (HR.out.trans (hb.mono HR.out.size))
    clear hb
    go_wp2_with fail
    go_ret2
    exact ⟨rfl, HR.out⟩
end Go.Proofs.YtgikafojkcjllaaDoor
