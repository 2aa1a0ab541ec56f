/-
  Contracts of amount.Valid (both results at once), amount.magnitude and amount.divide at this translation; divide's over a hypothesis on bits.Div64 at its three words.
-/
import Derived.Test.YtjjaemobgfconaaDoorAm2
import Derived.Test.YtjjaemobgfconaaDoorShelf
import Derived.Deep.QuietTactic
import Derived.Deep.RegionWith
import Derived.BigQuiet
import Derived.RegionTactic
import Derived.ChangeAlike
namespace Go.Proofs.YtjjaemobgfconaaDoor
open Go.RowKit

/-- Whether a number is an amount. -/
def okB (x : Int) : Bool := decide (okA x)
theorem okB_yes {x : Int} (h : okA x) : okB x = true := decide_eq_true h
theorem okB_no {x : Int} (h : ¬ okA x) : okB x = false := decide_eq_false h
theorem okB_iff {x : Int} : okB x = true ↔ okA x := by unfold okB; exact decide_eq_true_iff

/-- What is asked of bits.Div64 at three words: the quotient and the remainder of (hi, lo) by y; nothing is written. -/
def DivC (hi lo y : Int) : Prop := ∀ w : World, Calls Tryd.prog 41 #[.int .u64 hi, .int .u64 lo, .int .u64 y] w fun e w' =>
  e = .returned (.tuple #[.int .u64 ((hi * 18446744073709551616 + lo) / y), .int .u64 ((hi * 18446744073709551616 + lo) % y)]) ∧ ∃ n, w' = w.drewN n

theorem div_small (lo y : Int) (l1 : 0 ≤ lo) (l2 : lo < 18446744073709551616) (y1 : 0 < y) (y2 : y < 18446744073709551616) : DivC 0 lo y := by
  intro w
  have e0 : (y == 0) = false := by simp; omega
  go_enter Tryd.func41, Tryd.ntmps41
  go_wp2
  go_quiet (fail)
  go_wp2
  go_ret2
  refine ⟨ret_ii (by simp) (by simp), _, rfl⟩

/-- Whether two numbers have different signs. -/
def negB (x num : Int) : Bool := !(decide (x < 0) == decide (num < 0))
theorem below_drewN {B : Nat} {a w : World} (h : Below B a w) (n : Nat) : Below B a (w.drewN n) := ⟨h.os, h.tape, h.output, h.size, h.block⟩

/-- The product's absolute value. -/
def absP (x num : Int) : Int := (x.natAbs : Int) * (num.natAbs : Int)

theorem absP_bd (x num : Int) (hx : okA x) (hn : okA num) : 0 ≤ absP x num ∧ absP x num ≤ 1000000000000000000000000000000 := by
  unfold okA at hx hn
  unfold absP
  have h := Nat.mul_le_mul (show x.natAbs ≤ 1000000000000000 by omega) (show num.natAbs ≤ 1000000000000000 by omega)
  omega

theorem mul_any (x num : Int) (hx : okA x) (hn : okA num) (w : World) :
    Calls Tryd.prog 40 #[.int .u64 (x.natAbs : Int), .int .u64 (num.natAbs : Int)] w fun e w' => e = .returned (.tuple #[.int .u64 (absP x num / 18446744073709551616), .int .u64 (absP x num % 18446744073709551616)]) ∧ w = w' := by
  unfold okA at hx hn
  refine (Tryd.bits_Mul64 x.natAbs num.natAbs (by omega) (by omega) w).mono ?_
  rintro e w' ⟨rfl, rfl⟩
  exact ⟨ret_ii (by unfold absP; simp) (by unfold absP; simp), rfl⟩

/-- bits.Div64 at a number of two words. -/
theorem DivC.at {P den : Int} (c : DivC (P / 18446744073709551616) (P % 18446744073709551616) den) (w : World) :
    Calls Tryd.prog 41 #[.int .u64 (P / 18446744073709551616), .int .u64 (P % 18446744073709551616), .int .u64 den] w fun e w' =>
      e = .returned (.tuple #[.int .u64 (P / den), .int .u64 (P % den)]) ∧ ∃ n, w' = w.drewN n := by
  have e : P / 18446744073709551616 * 18446744073709551616 + P % 18446744073709551616 = P := by omega
  have h := c w
  rw [e] at h
  exact h

theorem hi_lt (P den : Int) (d1 : 1 ≤ den) (hq : P / den ≤ 1000000000000000) : P / 18446744073709551616 < den := by
  apply Classical.byContradiction
  intro h
  have h1 : den * 18446744073709551616 ≤ P := by omega
  have h2 : 18446744073709551616 ≤ P / den := (Int.le_ediv_iff_mul_le (by omega)).2 (by rw [Int.mul_comm]; exact h1)
  omega

end Go.Proofs.YtjjaemobgfconaaDoor
