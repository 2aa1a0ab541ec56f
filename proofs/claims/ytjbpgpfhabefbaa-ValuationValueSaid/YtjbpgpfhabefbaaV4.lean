/-
  Contracts of valuation's Value and Needed at this translation. Conditions: the arguments fit their kinds.
-/
import Derived.Test.YtjbpgpfhabefbaaV3
namespace Go.Proofs.Ytjbpgpfhabefbaa
open Go.RowKit
set_option linter.unusedVariables false

theorem hcB_iff {n d : Int} : hcB n d = true ↔ (ckE n d = 0 ∧ 0 ≤ n ∧ n ≤ d) := by unfold hcB; exact decide_eq_true_iff
theorem ret_vv {a b c d : Int} (h : a = b) (h' : c = d) : Ending.returned (.tuple #[.int .i64 a, .int .i64 c]) = .returned (.tuple #[.int .i64 b, .int .i64 d]) := by rw [h, h']

/-- Value at arguments that are refused. -/
theorem value_no (q p n d : Int) (w : World) (hn : I64 n) (hd : I64 d) (h : ¬ inV q p n d) :
    Calls Try.prog 4 #[.int .i64 q, .int .i64 p, .agg #[.int .i64 n, .int .i64 d]] w fun e w' => e = .returned (.tuple #[.int .i64 (vV q p n d), .int .i64 (vE q p n d)]) ∧ Below w.heap.size w w' := by
  have HR := hide (show vV q p n d = 0 ∧ vE q p n d = 2 by simp [vV, vE, h])
  have C1 := fun w => hide (isam_any q w)
  have C2 := fun w => hide (ispr_any p w)
  have C3 := fun w => hide (hc_any n d w hn hd)
  generalize vV q p n d = V at *
  generalize vE q p n d = E at *
  clear hn hd
  by_cases h1 : 0 ≤ q ∧ q ≤ 1000000000000000
  · rw [decide_eq_true h1] at C1
    by_cases h2 : 1 ≤ p ∧ p ≤ 1000000000
    · rw [decide_eq_true h2] at C2
      have h3 : hcB n d = false := by
        cases hb : hcB n d
        · rfl
        · exact absurd ⟨h1, h2, hcB_iff.1 hb⟩ h
      rw [h3] at C3
      clear h h1 h2 h3
      go_enter Try.func4, Try.ntmps4
      go_wp2_with fail
      refine (C1 _).out.mono ?_
      rintro e w1 ⟨rfl, rfl⟩
      go_wp2_with fail
      refine (C2 _).out.mono ?_
      rintro e w1 ⟨rfl, rfl⟩
      go_wp2_with fail
      refine (C3 _).out.mono ?_
      rintro e w1 ⟨rfl, hb⟩
      have HB1 := hide (show Below w.heap.size w w1 from ((Below.refl w.heap.size w).alloc (Nat.le_refl _) _).trans (hb.mono (by simp)))
      clear hb
      go_wp2_with fail
      go_ret2
      exact ⟨ret_vv HR.out.1.symm HR.out.2.symm, HB1.out⟩
    · rw [decide_eq_false h2] at C2
      clear h h1 h2 C3
      go_enter Try.func4, Try.ntmps4
      go_wp2_with fail
      refine (C1 _).out.mono ?_
      rintro e w1 ⟨rfl, rfl⟩
      go_wp2_with fail
      refine (C2 _).out.mono ?_
      rintro e w1 ⟨rfl, rfl⟩
      go_wp2_with fail
      go_ret2
      exact ⟨ret_vv HR.out.1.symm HR.out.2.symm, (Below.refl w.heap.size w).alloc (Nat.le_refl _) _⟩
  · rw [decide_eq_false h1] at C1
    clear h h1 C2 C3
    go_enter Try.func4, Try.ntmps4
    go_wp2_with fail
    refine (C1 _).out.mono ?_
    rintro e w1 ⟨rfl, rfl⟩
    go_wp2_with fail
    go_ret2
    exact ⟨ret_vv HR.out.1.symm HR.out.2.symm, (Below.refl w.heap.size w).alloc (Nat.le_refl _) _⟩

theorem mul_le3 {a b A B : Int} (a0 : 0 ≤ a) (a1 : a ≤ A) (b0 : 0 ≤ b) (b1 : b ≤ B) : 0 ≤ a * b ∧ a * b ≤ A * B :=
  ⟨Int.mul_nonneg a0 b0, Int.mul_le_mul a1 b1 b0 (by omega)⟩

set_option maxHeartbeats 1000000 in
theorem value_yes (q p n d : Int) (w : World) (hn : I64 n) (hd : I64 d) (h : inV q p n d) :
    Calls Try.prog 4 #[.int .i64 q, .int .i64 p, .agg #[.int .i64 n, .int .i64 d]] w fun e w' => e = .returned (.tuple #[.int .i64 (vV q p n d), .int .i64 (vE q p n d)]) ∧ Below w.heap.size w w' := by
  have C1 := fun w => hide (isam_any q w)
  have C2 := fun w => hide (ispr_any p w)
  have C3 := fun w => hide (hc_any n d w hn hd)
  rw [decide_eq_true h.1] at C1
  rw [decide_eq_true h.2.1] at C2
  rw [hcB_iff.2 h.2.2] at C3
  obtain ⟨⟨q0, q1⟩, ⟨p0, p1⟩, ⟨hc, n0, n1⟩⟩ := id h
  obtain ⟨d0, d1, _, _, _⟩ := ck_ok hc
  obtain ⟨s0, hs0⟩ : ∃ s, s = d - n := ⟨_, rfl⟩
  have b1 := mul_le3 q0 q1 (show 0 ≤ p by omega) p1
  obtain ⟨X, hX⟩ : ∃ X, X = q * p := ⟨_, rfl⟩
  rw [← hX] at b1
  have sB : 0 ≤ s0 ∧ s0 ≤ 1000000000 := by omega
  have lo0 : 0 ≤ X % 18446744073709551616 := by omega
  have lo1 : X % 18446744073709551616 < 18446744073709551616 := by omega
  have hi0 : 0 ≤ X / 18446744073709551616 := by omega
  have hi1 : X / 18446744073709551616 ≤ 54211 := by omega
  have m1 := mul_le3 lo0 (show X % 18446744073709551616 ≤ 18446744073709551615 by omega) sB.1 sB.2
  have m2 := mul_le3 hi0 hi1 sB.1 sB.2
  have hT : X * s0 = X / 18446744073709551616 * s0 * 18446744073709551616 + X % 18446744073709551616 * s0 := by
    have : X = X / 18446744073709551616 * 18446744073709551616 + X % 18446744073709551616 := by omega
    have e : X * s0 = (X / 18446744073709551616 * 18446744073709551616 + X % 18446744073709551616) * s0 := by rw [← this]
    rw [e, Int.add_mul, Int.mul_right_comm]
  have HR := hide (show vV q p n d = quV (X * s0) d ∧ vE q p n d = quE (X * s0) d by
    have e : q * (p * (d - n)) = X * s0 := by rw [hX, hs0, Int.mul_assoc]
    constructor
    · unfold vV vE vQ quV; rw [if_pos h, e]; split <;> simp_all
    · unfold vE vQ quE; rw [if_pos h, e])
  have M1 := fun w => hide (mul64 q p w q0 (by omega) (by omega) (by omega))
  rw [← hX] at M1
  have M2 := fun w => hide (mul64 (X % 18446744073709551616) s0 w lo0 lo1 sB.1 (by omega))
  have QU := fun w => hide (quot_any (X * s0) d w (by rw [hT]; omega) (by rw [hT]; omega) (by omega) (by omega))
  have eH : X * s0 / 18446744073709551616 = X % 18446744073709551616 * s0 / 18446744073709551616 + X / 18446744073709551616 * s0 := by rw [hT]; omega
  have eL : X * s0 % 18446744073709551616 = X % 18446744073709551616 * s0 % 18446744073709551616 := by rw [hT]; omega
  rw [eH, eL] at QU
  generalize vV q p n d = V at *
  generalize vE q p n d = E at *
  generalize quV (X * s0) d = V2 at *
  generalize quE (X * s0) d = E2 at *
  generalize X / 18446744073709551616 = H at *
  generalize X % 18446744073709551616 = L at *
  obtain ⟨A, hA⟩ : ∃ A, A = L * s0 := ⟨_, rfl⟩
  rw [← hA] at M2 QU m1
  obtain ⟨B, hB⟩ : ∃ B, B = H * s0 := ⟨_, rfl⟩
  rw [← hB] at QU m2
  have a0 : 0 ≤ A / 18446744073709551616 := by omega
  have a1 : A / 18446744073709551616 ≤ 1000000000 := by omega
  obtain ⟨b0, b2⟩ := m2
  have wB : IntKind.u64.wrap (H * s0) = B := by rw [← hB, IntKind.wrap_u64]; omega
  have es : d - n = s0 := hs0.symm
  clear h hn hd hX b1 hT eH eL hA hB hc m1 hs0
  obtain ⟨sb0, sb1⟩ := sB
  go_enter Try.func4, Try.ntmps4
  go_wp2_with fail
  refine (C1 _).out.mono ?_
  rintro e w1 ⟨rfl, rfl⟩
  go_wp2_with fail
  refine (C2 _).out.mono ?_
  rintro e w1 ⟨rfl, rfl⟩
  go_wp2_with fail
  refine (C3 _).out.mono ?_
  rintro e w1 ⟨rfl, hb⟩
  have c0 := (hb.cell (p := ⟨w.heap.size, 0, none⟩) (by simp)).trans (show _ = some (Value.int .i64 n) by simp [go_sem])
  have c1 := (hb.cell (p := ⟨w.heap.size, 1, none⟩) (by simp)).trans (show _ = some (Value.int .i64 d) by simp [go_sem])
  have HB1 := hide (show Below w.heap.size w w1 from ((Below.refl w.heap.size w).alloc (Nat.le_refl _) _).trans (hb.mono (by simp)))
  clear hb
  go_wp2_with fail
  refine (M1 _).out.mono ?_
  rintro e w2 ⟨rfl, rfl⟩
  go_wp2_with fail
  refine (M2 _).out.mono ?_
  rintro e w2 ⟨rfl, rfl⟩
  go_wp2_with fail
  refine (QU _).out.mono ?_
  rintro e w2 ⟨rfl, hb⟩
  have HB2 := hide (HB1.out.trans (hb.mono HB1.out.size))
  clear hb
  go_wp2_with fail
  go_ret2
  exact ⟨ret_vv HR.out.1.symm HR.out.2.symm, HB2.out⟩

theorem value_any (q p n d : Int) (w : World) (hn : I64 n) (hd : I64 d) :
    Calls Try.prog 4 #[.int .i64 q, .int .i64 p, .agg #[.int .i64 n, .int .i64 d]] w fun e w' => e = .returned (.tuple #[.int .i64 (vV q p n d), .int .i64 (vE q p n d)]) ∧ Below w.heap.size w w' := by
  by_cases h : inV q p n d
  · exact value_yes q p n d w hn hd h
  · exact value_no q p n d w hn hd h
end Go.Proofs.Ytjbpgpfhabefbaa
