/-
  Small helpers: equal results, hidden facts; what is asked of bits.Div64, and bits.Div64 at one word.
-/
import Derived.Test.YtjbpgpfhabefbaaRows
import Derived.WalkKit
import Derived.WalkSpells
import Derived.StillTactics
import Derived.Laws.Pointers
import Derived.LoopTactic
import Derived.Outline
import Derived.Below
import Derived.Laws.Externs
import Derived.Deep.QuietTactic
import Derived.Deep.RegionWith
import Derived.BigQuiet
import Derived.RegionTactic
import Derived.ChangeAlike
namespace Go.Proofs.Ytjbpgpfhabefbaa
open Go.RowKit
set_option linter.unusedVariables false

theorem u64_wf (x : Int) : 0 ≤ IntKind.u64.wrap x ∧ IntKind.u64.wrap x < 18446744073709551616 := by
  rw [IntKind.wrap_u64]; omega
theorem ret_ii {k k' : IntKind} {a b c d : Int} (h : a = b) (h' : c = d) : Ending.returned (.tuple #[.int k a, .int k' c]) = .returned (.tuple #[.int k b, .int k' d]) := by rw [h, h']
theorem ret_i {k : IntKind} {a b : Int} (h : a = b) : Ending.returned (.int k a) = .returned (.int k b) := by rw [h]
theorem hide {p : Prop} (h : p) : Hid p := h

/-- What is asked of bits.Div64 at three words: the quotient and the remainder of (hi, lo) by y; nothing is written. -/
def DivC (hi lo y : Int) : Prop := ∀ w : World, Calls Try.prog 17 #[.int .u64 hi, .int .u64 lo, .int .u64 y] w fun e w' =>
  e = .returned (.tuple #[.int .u64 ((hi * 18446744073709551616 + lo) / y), .int .u64 ((hi * 18446744073709551616 + lo) % y)]) ∧ ∃ n, w' = w.drewN n

theorem div_small (lo y : Int) (l1 : 0 ≤ lo) (l2 : lo < 18446744073709551616) (y1 : 0 < y) (y2 : y < 18446744073709551616) : DivC 0 lo y := by
  intro w
  have e0 : (y == 0) = false := by simp; omega
  go_enter Try.func17, Try.ntmps17
  go_wp2
  go_quiet (fail)
  go_wp2
  go_ret2
  refine ⟨ret_ii (by simp) (by simp), _, rfl⟩
theorem below_drewN {B : Nat} {a w : World} (h : Below B a w) (n : Nat) : Below B a (w.drewN n) := ⟨h.os, h.tape, h.output, h.size, h.block⟩
end Go.Proofs.Ytjbpgpfhabefbaa
