/-
  Contracts of valuation's small functions and of quotient at this translation.
-/
import Derived.Test.YtjbpgpfhabefbaaFr5
import Derived.Test.YtjbpgpfhabefbaaDiv
import Derived.Test.YtjbpgpfhabefbaaV2
import Derived.Laws.Bits64b
namespace Go.Proofs.Ytjbpgpfhabefbaa
open Go.RowKit
set_option linter.unusedVariables false

def I64 (n : Int) : Prop := -9223372036854775808 ≤ n ∧ n ≤ 9223372036854775807
theorem wf64 {a : Int} (h : (Lit.int .i64 a).wf = true) : I64 a := by
  simp [Lit.wf] at h; simp [IntKind.min, IntKind.signed, IntKind.bits] at h; exact h

theorem isam_any (x : Int) (w : World) : Calls Try.prog 8 #[.int .i64 x] w fun e w' => e = .returned (.bool (decide (0 ≤ x ∧ x ≤ 1000000000000000))) ∧ w = w' := by
  by_cases h : 0 ≤ x
  · go_enter Try.func8, Try.ntmps8
    go_wp2
    go_ret
    exact ⟨by simp [h], rfl⟩
  · go_enter Try.func8, Try.ntmps8
    go_wp2
    go_ret
    exact ⟨by simp <;> omega, rfl⟩
theorem ispr_any (x : Int) (w : World) : Calls Try.prog 9 #[.int .i64 x] w fun e w' => e = .returned (.bool (decide (1 ≤ x ∧ x ≤ 1000000000))) ∧ w = w' := by
  by_cases h : 1 ≤ x
  · go_enter Try.func9, Try.ntmps9
    go_wp2
    go_ret
    exact ⟨by simp [h], rfl⟩
  · go_enter Try.func9, Try.ntmps9
    go_wp2
    go_ret
    exact ⟨by simp <;> omega, rfl⟩

def hcB (n d : Int) : Bool := decide (ckE n d = 0 ∧ 0 ≤ n ∧ n ≤ d)
theorem hc_any (n d : Int) (w : World) (hn : I64 n) (hd : I64 d) : Calls Try.prog 10 #[.agg #[.int .i64 n, .int .i64 d]] w fun e w' => e = .returned (.bool (hcB n d)) ∧ Below w.heap.size w w' := by
  have C := fun w => hide (check_any n d w hn.1 hn.2 hd.1 hd.2)
  have HB := hide (show hcB n d = decide (ckE n d = 0 ∧ 0 ≤ n ∧ n ≤ d) from rfl)
  generalize hcB n d = B at *
  generalize ckE n d = E at *
  have fin : ∀ {b : Bool} {w' : World}, b = B → Below w.heap.size w w' → (Ending.returned (.bool b) = .returned (.bool B)) ∧ Below w.heap.size w w' := fun h h' => ⟨by rw [h], h'⟩
  by_cases h : E = 0
  · subst h
    by_cases h0 : 0 ≤ n
    · go_enter Try.func10, Try.ntmps10
      go_wp2_with fail
      refine (C _).out.mono ?_
      rintro e w1 ⟨rfl, hb⟩
      have c0 := (hb.cell (p := ⟨w.heap.size, 0, none⟩) (by simp)).trans (show _ = some (Value.int .i64 n) by simp [go_sem])
      have c1 := (hb.cell (p := ⟨w.heap.size, 1, none⟩) (by simp)).trans (show _ = some (Value.int .i64 d) by simp [go_sem])
      have HB1 := hide (show Below w.heap.size w w1 from ((Below.refl w.heap.size w).alloc (Nat.le_refl _) _).trans (hb.mono (by simp)))
      clear hb
      go_wp2_with fail
      go_ret
      exact fin (by rw [HB.out]; simp [h0]) HB1.out
    · go_enter Try.func10, Try.ntmps10
      go_wp2_with fail
      refine (C _).out.mono ?_
      rintro e w1 ⟨rfl, hb⟩
      have c0 := (hb.cell (p := ⟨w.heap.size, 0, none⟩) (by simp)).trans (show _ = some (Value.int .i64 n) by simp [go_sem])
      have c1 := (hb.cell (p := ⟨w.heap.size, 1, none⟩) (by simp)).trans (show _ = some (Value.int .i64 d) by simp [go_sem])
      have HB1 := hide (show Below w.heap.size w w1 from ((Below.refl w.heap.size w).alloc (Nat.le_refl _) _).trans (hb.mono (by simp)))
      clear hb
      go_wp2_with fail
      go_ret
      exact fin (by rw [HB.out]; simp <;> omega) HB1.out
  · have e1 : (E == 0) = false := by simpa using h
    go_enter Try.func10, Try.ntmps10
    go_wp2_with fail
    refine (C _).out.mono ?_
    rintro e w1 ⟨rfl, hb⟩
    have HB1 := hide (show Below w.heap.size w w1 from ((Below.refl w.heap.size w).alloc (Nat.le_refl _) _).trans (hb.mono (by simp)))
    clear hb
    go_wp2_with fail
    go_ret
    exact fin (by rw [HB.out]; simp [h]) HB1.out

/-- A number of two words divided, if the result is an amount. -/
def quV (P D : Int) : Int := if P / D ≤ 1000000000000000 then P / D else 0
def quE (P D : Int) : Int := if P / D ≤ 1000000000000000 then 0 else 12
theorem quot_any (P D : Int) (w : World) (p0 : 0 ≤ P) (p1 : P < 340282366920938463463374607431768211456) (d0 : 0 < D) (d1 : D < 18446744073709551616) :
    Calls Try.prog 12 #[.int .u64 (P / 18446744073709551616), .int .u64 (P % 18446744073709551616), .int .u64 D] w fun e w' => e = .returned (.tuple #[.int .i64 (quV P D), .int .i64 (quE P D)]) ∧ Below w.heap.size w w' := by
  have h0 : 0 ≤ P / 18446744073709551616 := by omega
  have l0 : 0 ≤ P % 18446744073709551616 := by omega
  have l1 : P % 18446744073709551616 < 18446744073709551616 := by omega
  have e : P / 18446744073709551616 * 18446744073709551616 + P % 18446744073709551616 = P := by omega
  by_cases hh : P / 18446744073709551616 < D
  · have DC := fun w => hide (div_any _ _ D h0 hh d1 l0 l1 w)
    simp only [e] at DC
    have q0 : 0 ≤ P / D := Int.ediv_nonneg p0 (by omega)
    have HV := hide (show quV P D = (if P / D ≤ 1000000000000000 then P / D else 0) ∧ quE P D = (if P / D ≤ 1000000000000000 then 0 else 12) from ⟨rfl, rfl⟩)
    generalize quV P D = V at *
    generalize quE P D = E at *
    generalize P / D = Q at *
    generalize P % D = R at *
    generalize P / 18446744073709551616 = H at *
    generalize P % 18446744073709551616 = L at *
    clear e p0 p1
    by_cases hq : Q ≤ 1000000000000000
    · have HW := hide (show V = Q ∧ E = 0 by have := HV.out; simpa [hq] using this)
      clear HV
      go_enter Try.func12, Try.ntmps12
      go_wp2_with fail
      refine (DC _).out.mono ?_
      rintro e w' ⟨rfl, n, rfl⟩
      go_wp2_with fail
      go_ret2
      exact ⟨ret_ii HW.out.1.symm HW.out.2.symm, below_drewN (Below.refl _ _) n⟩
    · have HW := hide (show V = 0 ∧ E = 12 by have := HV.out; simpa [hq] using this)
      clear HV
      go_enter Try.func12, Try.ntmps12
      go_wp2_with fail
      refine (DC _).out.mono ?_
      rintro e w' ⟨rfl, n, rfl⟩
      go_wp2_with fail
      go_ret2
      exact ⟨ret_ii HW.out.1.symm HW.out.2.symm, below_drewN (Below.refl _ _) n⟩
  · have hq : ¬ P / D ≤ 1000000000000000 := by
      intro h
      have h1 : D * 18446744073709551616 ≤ P := by omega
      have h2 : 18446744073709551616 ≤ P / D := (Int.le_ediv_iff_mul_le d0).2 (by rw [Int.mul_comm]; exact h1)
      omega
    have HW := hide (show quV P D = 0 ∧ quE P D = 12 by simp [quV, quE, hq])
    generalize quV P D = V at *
    generalize quE P D = E at *
    generalize P / 18446744073709551616 = H at *
    generalize P % 18446744073709551616 = L at *
    clear e p0 p1 hq
    go_enter Try.func12, Try.ntmps12
    go_wp2_with fail
    go_ret2
    exact ⟨ret_ii HW.out.1.symm HW.out.2.symm, Below.refl _ _⟩

theorem mul64 (a b : Int) (w : World) (a0 : 0 ≤ a) (a1 : a < 18446744073709551616) (b0 : 0 ≤ b) (b1 : b < 18446744073709551616) :
    Calls Try.prog 11 #[.int .u64 a, .int .u64 b] w fun e w' => e = .returned (.tuple #[.int .u64 (a * b / 18446744073709551616), .int .u64 (a * b % 18446744073709551616)]) ∧ w = w' := by
  obtain ⟨x, rfl⟩ := Int.eq_ofNat_of_zero_le a0
  obtain ⟨y, rfl⟩ := Int.eq_ofNat_of_zero_le b0
  refine (Try.bits_Mul64 x y (by omega) (by omega) w).mono ?_
  rintro e w' ⟨rfl, rfl⟩
  exact ⟨ret_ii (by simp) (by simp), rfl⟩
theorem add64c (x y c : Int) (hx : 0 ≤ x) (hx' : x < 18446744073709551616) (hy : 0 ≤ y) (hy' : y < 18446744073709551616) (hc0 : 0 ≤ c) (hc : c ≤ 1) (w : World) : (callFunc 19 #[.int .u64 x, .int .u64 y, .int .u64 c]).run Try.prog w =
    .ok (.value (.tuple #[.int .u64 ((x + y + c) % 18446744073709551616), .int .u64 ((x + y + c) / 18446744073709551616)])) w := by
  obtain ⟨x, rfl⟩ := Int.eq_ofNat_of_zero_le hx
  obtain ⟨y, rfl⟩ := Int.eq_ofNat_of_zero_le hy
  obtain ⟨c, rfl⟩ := Int.eq_ofNat_of_zero_le hc0
  rw [run_callFunc_extern Try.func19 (by kernel_rfl) (by kernel_rfl) (by kernel_rfl) (e := add64Entry) (by kernel_rfl), run_add64 x y c (by omega) (by omega) (by omega) (by omega)]
  simp only [Result.andThen]
theorem add64 (x y : Int) (hx : 0 ≤ x) (hx' : x < 18446744073709551616) (hy : 0 ≤ y) (hy' : y < 18446744073709551616) (w : World) : (callFunc 19 #[.int .u64 x, .int .u64 y, .int .u64 0]).run Try.prog w =
    .ok (.value (.tuple #[.int .u64 ((x + y) % 18446744073709551616), .int .u64 ((x + y) / 18446744073709551616)])) w := by
  simpa using add64c x y 0 hx hx' hy hy' (Int.le_refl 0) (by decide) w
end Go.Proofs.Ytjbpgpfhabefbaa
