/-
  Contracts of amount.Valid (both results at once), amount.magnitude and amount.divide at this translation; divide's over a hypothesis on bits.Div64 at its three words.
-/
import Derived.Test.YtgikafojkcjllaaDoorAm2
import Derived.Test.YtgikafojkcjllaaDoorShelf
import Derived.Deep.QuietTactic
import Derived.Deep.RegionWith
import Derived.BigQuiet
import Derived.RegionTactic
import Derived.ChangeAlike
namespace Go.Proofs.YtgikafojkcjllaaDoor
open Go.RowKit

/-- Whether a number is an amount. -/
def okB (x : Int) : Bool := decide (okA x)
theorem okB_yes {x : Int} (h : okA x) : okB x = true := decide_eq_true h
theorem okB_no {x : Int} (h : ¬ okA x) : okB x = false := decide_eq_false h
theorem okB_iff {x : Int} : okB x = true ↔ okA x := by unfold okB; exact decide_eq_true_iff

theorem valid_any (x : Int) (w : World) : Calls Tryd.prog 10 #[.int .i64 x] w fun e w' => e = .returned (.bool (okB x)) ∧ w = w' := by
  by_cases h : okA x
  · rw [okB_yes h]; exact valid_yes x w h.1 h.2
  · rw [okB_no h]; exact valid_no x w (by unfold okA at h; omega)

theorem mag_any (x : Int) (w : World) (h1 : -1000000000000000 ≤ x) (h2 : x ≤ 1000000000000000) :
    Calls Tryd.prog 11 #[.int .i64 x] w fun e w' => e = .returned (.int .u64 (x.natAbs : Int)) ∧ w = w' := by
  by_cases h : x < 0
  · go_enter Tryd.func11, Tryd.ntmps11
    go_wp2
    go_ret
    exact ⟨ret_i (by omega), rfl⟩
  · go_enter Tryd.func11, Tryd.ntmps11
    go_wp2
    go_ret
    exact ⟨ret_i (by omega), rfl⟩

/-- What is asked of bits.Div64 at three words: the quotient and the remainder of (hi, lo) by y; nothing is written. -/
def DivC (hi lo y : Int) : Prop := ∀ w : World, Calls Tryd.prog 34 #[.int .u64 hi, .int .u64 lo, .int .u64 y] w fun e w' =>
  e = .returned (.tuple #[.int .u64 ((hi * 18446744073709551616 + lo) / y), .int .u64 ((hi * 18446744073709551616 + lo) % y)]) ∧ ∃ n, w' = w.drewN n

theorem div_small (lo y : Int) (l1 : 0 ≤ lo) (l2 : lo < 18446744073709551616) (y1 : 0 < y) (y2 : y < 18446744073709551616) : DivC 0 lo y := by
  intro w
  have e0 : (y == 0) = false := by simp; omega
  go_enter Tryd.func34, Tryd.ntmps34
  go_wp2
  go_quiet (fail)
  go_wp2
  go_ret2
  refine ⟨ret_ii (by simp) (by simp), _, rfl⟩

/-- Whether two numbers have different signs. -/
def negB (x num : Int) : Bool := !(decide (x < 0) == decide (num < 0))
theorem below_drewN {B : Nat} {a w : World} (h : Below B a w) (n : Nat) : Below B a (w.drewN n) := ⟨h.os, h.tape, h.output, h.size, h.block⟩

/-- The product's absolute value. -/
def absP (x num : Int) : Int := (x.natAbs : Int) * (num.natAbs : Int)

/-- amount.divide at arguments that are refused. -/
theorem divide_bad (x num den : Int) (w : World) (h : ¬ (okA x ∧ okA num ∧ 1 ≤ den ∧ den ≤ 1000000000000000)) :
    Calls Tryd.prog 24 #[.int .i64 x, .int .i64 num, .int .i64 den] w fun e w' =>
      e = .returned (.tuple #[.agg #[.bool false, .int .u64 0, .int .u64 0, .int .u64 0], .int .i64 2]) ∧ Below w.heap.size w w' := by
  by_cases hx : okA x
  · have bx := okB_yes hx
    by_cases hn : okA num
    · have bn := okB_yes hn
      by_cases hd : den < 1
      · clear h hx hn
        go_enter Tryd.func24, Tryd.ntmps24
        go_wp2_with (go_at_call 10; refine (valid_any _ _).mono ?_; rintro e w' ⟨rfl, rfl⟩)
        exact bodyPost_ret (v := .tuple #[.agg #[.bool false, .int .u64 0, .int .u64 0, .int .u64 0], .int .i64 2]) (by simp [results, Tryd.results24, go_sem]) rfl ⟨rfl, (Below.refl _ _).alloc (Nat.le_refl _) _⟩
      · have hd1 : 1000000000000000 < den := by
          apply Classical.byContradiction; intro hc
          exact h ⟨hx, hn, by omega, by omega⟩
        clear h hx hn
        go_enter Tryd.func24, Tryd.ntmps24
        go_wp2_with (go_at_call 10; refine (valid_any _ _).mono ?_; rintro e w' ⟨rfl, rfl⟩)
        exact bodyPost_ret (v := .tuple #[.agg #[.bool false, .int .u64 0, .int .u64 0, .int .u64 0], .int .i64 2]) (by simp [results, Tryd.results24, go_sem]) rfl ⟨rfl, (Below.refl _ _).alloc (Nat.le_refl _) _⟩
    · have bn := okB_no hn
      clear h hx hn
      go_enter Tryd.func24, Tryd.ntmps24
      go_wp2_with (go_at_call 10; refine (valid_any _ _).mono ?_; rintro e w' ⟨rfl, rfl⟩)
      exact bodyPost_ret (v := .tuple #[.agg #[.bool false, .int .u64 0, .int .u64 0, .int .u64 0], .int .i64 2]) (by simp [results, Tryd.results24, go_sem]) rfl ⟨rfl, (Below.refl _ _).alloc (Nat.le_refl _) _⟩
  · have bx := okB_no hx
    clear h hx
    go_enter Tryd.func24, Tryd.ntmps24
    go_wp2_with (go_at_call 10; refine (valid_any _ _).mono ?_; rintro e w' ⟨rfl, rfl⟩)
    exact bodyPost_ret (v := .tuple #[.agg #[.bool false, .int .u64 0, .int .u64 0, .int .u64 0], .int .i64 2]) (by simp [results, Tryd.results24, go_sem]) rfl ⟨rfl, (Below.refl _ _).alloc (Nat.le_refl _) _⟩

theorem absP_bd (x num : Int) (hx : okA x) (hn : okA num) : 0 ≤ absP x num ∧ absP x num ≤ 1000000000000000000000000000000 := by
  unfold okA at hx hn
  unfold absP
  have h := Nat.mul_le_mul (show x.natAbs ≤ 1000000000000000 by omega) (show num.natAbs ≤ 1000000000000000 by omega)
  omega

theorem mul_any (x num : Int) (hx : okA x) (hn : okA num) (w : World) :
    Calls Tryd.prog 33 #[.int .u64 (x.natAbs : Int), .int .u64 (num.natAbs : Int)] w fun e w' => e = .returned (.tuple #[.int .u64 (absP x num / 18446744073709551616), .int .u64 (absP x num % 18446744073709551616)]) ∧ w = w' := by
  unfold okA at hx hn
  refine (Tryd.bits_Mul64 x.natAbs num.natAbs (by omega) (by omega) w).mono ?_
  rintro e w' ⟨rfl, rfl⟩
  exact ⟨ret_ii (by unfold absP; simp) (by unfold absP; simp), rfl⟩

/-- bits.Div64 at a number of two words. -/
theorem DivC.at {P den : Int} (c : DivC (P / 18446744073709551616) (P % 18446744073709551616) den) (w : World) :
    Calls Tryd.prog 34 #[.int .u64 (P / 18446744073709551616), .int .u64 (P % 18446744073709551616), .int .u64 den] w fun e w' =>
      e = .returned (.tuple #[.int .u64 (P / den), .int .u64 (P % den)]) ∧ ∃ n, w' = w.drewN n := by
  have e : P / 18446744073709551616 * 18446744073709551616 + P % 18446744073709551616 = P := by omega
  have h := c w
  rw [e] at h
  exact h

theorem hi_lt (P den : Int) (d1 : 1 ≤ den) (hq : P / den ≤ 1000000000000000) : P / 18446744073709551616 < den := by
  apply Classical.byContradiction
  intro h
  have h1 : den * 18446744073709551616 ≤ P := by omega
  have h2 : 18446744073709551616 ≤ P / den := (Int.le_ediv_iff_mul_le (by omega)).2 (by rw [Int.mul_comm]; exact h1)
  omega

theorem divide_ok (x num den : Int) (w : World) (hx : okA x) (hn : okA num) (d1 : 1 ≤ den) (d2 : den ≤ 1000000000000000)
    (hq : absP x num / den ≤ 1000000000000000) (c : DivC (absP x num / 18446744073709551616) (absP x num % 18446744073709551616) den) :
    Calls Tryd.prog 24 #[.int .i64 x, .int .i64 num, .int .i64 den] w fun e w' =>
      e = .returned (.tuple #[.agg #[.bool (negB x num), .int .u64 (absP x num / den), .int .u64 (absP x num % den), .int .u64 den], .int .i64 0]) ∧ Below w.heap.size w w' := by
  have bx := okB_yes hx
  have bn := okB_yes hn
  have M := fun w => hide (mul_any x num hx hn w)
  obtain ⟨x1, x2⟩ := hx
  obtain ⟨n1, n2⟩ := hn
  have C := fun w => hide (c.at w)
  clear c
  have hh := hi_lt _ _ d1 hq
  have hp := (absP_bd x num ⟨x1, x2⟩ ⟨n1, n2⟩).1
  have hh0 : 0 ≤ absP x num / 18446744073709551616 := by omega
  go_enter Tryd.func24, Tryd.ntmps24
  go_wp2_with (first | (go_at_call 10; refine (valid_any _ _).mono ?_; rintro e w' ⟨rfl, rfl⟩) | (go_at_call_of 11 (Value.int .i64 x); refine (mag_any _ _ x1 x2).mono ?_; rintro e w' ⟨rfl, rfl⟩) | (go_at_call_of 11 (Value.int .i64 num); refine (mag_any _ _ n1 n2).mono ?_; rintro e w' ⟨rfl, rfl⟩))
  refine (M _).out.mono ?_
  rintro e w' ⟨rfl, rfl⟩
  go_wp2_with fail
  refine (C _).out.mono ?_
  rintro e w' ⟨rfl, n, rfl⟩
  go_wp2_with fail
  exact bodyPost_ret (v := .tuple #[.agg #[.bool (negB x num), .int .u64 (absP x num / den), .int .u64 (absP x num % den), .int .u64 den], .int .i64 0]) (by simp [results, Tryd.results24, go_sem, negB]) rfl
    ⟨rfl, ((((below_drewN ((Below.refl _ _).alloc (Nat.le_refl _) _) n).setCell (Nat.le_refl _) _).setCell (Nat.le_refl _) _).setCell (Nat.le_refl _) _).setCell (Nat.le_refl _) _⟩

theorem divide_over (x num den : Int) (w : World) (hx : okA x) (hn : okA num) (d1 : 1 ≤ den) (d2 : den ≤ 1000000000000000)
    (hq : 1000000000000000 < absP x num / den) (c : absP x num / 18446744073709551616 < den → DivC (absP x num / 18446744073709551616) (absP x num % 18446744073709551616) den) :
    Calls Tryd.prog 24 #[.int .i64 x, .int .i64 num, .int .i64 den] w fun e w' =>
      e = .returned (.tuple #[.agg #[.bool false, .int .u64 0, .int .u64 0, .int .u64 0], .int .i64 12]) ∧ Below w.heap.size w w' := by
  have bx := okB_yes hx
  have bn := okB_yes hn
  have M := fun w => hide (mul_any x num hx hn w)
  obtain ⟨x1, x2⟩ := hx
  obtain ⟨n1, n2⟩ := hn
  have hp := (absP_bd x num ⟨x1, x2⟩ ⟨n1, n2⟩).1
  have hh0 : 0 ≤ absP x num / 18446744073709551616 := by omega
  by_cases hh : absP x num / 18446744073709551616 < den
  · have C := fun w => hide ((c hh).at w)
    clear c
    go_enter Tryd.func24, Tryd.ntmps24
    go_wp2_with (first | (go_at_call 10; refine (valid_any _ _).mono ?_; rintro e w' ⟨rfl, rfl⟩) | (go_at_call_of 11 (Value.int .i64 x); refine (mag_any _ _ x1 x2).mono ?_; rintro e w' ⟨rfl, rfl⟩) | (go_at_call_of 11 (Value.int .i64 num); refine (mag_any _ _ n1 n2).mono ?_; rintro e w' ⟨rfl, rfl⟩))
    refine (M _).out.mono ?_
    rintro e w' ⟨rfl, rfl⟩
    go_wp2_with fail
    refine (C _).out.mono ?_
    rintro e w' ⟨rfl, n, rfl⟩
    go_wp2_with fail
    exact bodyPost_ret (v := .tuple #[.agg #[.bool false, .int .u64 0, .int .u64 0, .int .u64 0], .int .i64 12]) (by simp [results, Tryd.results24, go_sem]) rfl
      ⟨rfl, ((((below_drewN ((Below.refl _ _).alloc (Nat.le_refl _) _) n).setCell (Nat.le_refl _) _).setCell (Nat.le_refl _) _).setCell (Nat.le_refl _) _).setCell (Nat.le_refl _) _⟩
  · clear c
    go_enter Tryd.func24, Tryd.ntmps24
    go_wp2_with (first | (go_at_call 10; refine (valid_any _ _).mono ?_; rintro e w' ⟨rfl, rfl⟩) | (go_at_call_of 11 (Value.int .i64 x); refine (mag_any _ _ x1 x2).mono ?_; rintro e w' ⟨rfl, rfl⟩) | (go_at_call_of 11 (Value.int .i64 num); refine (mag_any _ _ n1 n2).mono ?_; rintro e w' ⟨rfl, rfl⟩))
    refine (M _).out.mono ?_
    rintro e w' ⟨rfl, rfl⟩
    go_wp2_with fail
    exact bodyPost_ret (v := .tuple #[.agg #[.bool false, .int .u64 0, .int .u64 0, .int .u64 0], .int .i64 12]) (by simp [results, Tryd.results24, go_sem]) rfl
      ⟨rfl, (Below.refl _ _).alloc (Nat.le_refl _) _⟩
end Go.Proofs.YtgikafojkcjllaaDoor
