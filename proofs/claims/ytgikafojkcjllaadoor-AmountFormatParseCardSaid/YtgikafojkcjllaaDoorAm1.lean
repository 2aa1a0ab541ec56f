/-
  Contracts of amount's small functions (Valid, bounded, magnitude) and of bits.Add64 at this translation. Conditions: none but that the arguments fit their kinds.
-/
import Derived.Test.YtgikafojkcjllaaDoorRows
import Derived.WalkKit
import Derived.WalkSpells
import Derived.StillTactics
import Derived.Laws.Pointers
import Derived.LoopTactic
import Derived.Outline
import Derived.Below
namespace Go.Proofs.YtgikafojkcjllaaDoor
open Go.RowKit

/-- amount.Valid at an amount. -/
theorem valid_yes (x : Int) (w : World) (h1 : -1000000000000000 ≤ x) (h2 : x ≤ 1000000000000000) :
    Calls Tryd.prog 10 #[.int .i64 x] w fun e w' => e = .returned (.bool true) ∧ w = w' := by
  go_enter Tryd.func10, Tryd.ntmps10
  go_wp2
  go_ret
  exact ⟨rfl, rfl⟩

/-- amount.Valid at no amount. -/
theorem valid_lo (x : Int) (w : World) (h1 : x < -1000000000000000) :
    Calls Tryd.prog 10 #[.int .i64 x] w fun e w' => e = .returned (.bool false) ∧ w = w' := by
  go_enter Tryd.func10, Tryd.ntmps10
  go_wp2
  go_ret
  exact ⟨rfl, rfl⟩
theorem valid_hi (x : Int) (w : World) (h1 : 1000000000000000 < x) :
    Calls Tryd.prog 10 #[.int .i64 x] w fun e w' => e = .returned (.bool false) ∧ w = w' := by
  have h0 : -1000000000000000 ≤ x := by omega
  have hd : decide (x ≤ 1000000000000000) = false := by simp; omega
  go_enter Tryd.func10, Tryd.ntmps10
  go_wp2
  go_ret
  exact ⟨rfl, rfl⟩
theorem valid_no (x : Int) (w : World) (h : x < -1000000000000000 ∨ 1000000000000000 < x) :
    Calls Tryd.prog 10 #[.int .i64 x] w fun e w' => e = .returned (.bool false) ∧ w = w' := by
  rcases h with h | h
  · exact valid_lo x w h
  · exact valid_hi x w h

theorem bounded_yes (x : Int) (w : World) (h1 : -1000000000000000 ≤ x) (h2 : x ≤ 1000000000000000) :
    Calls Tryd.prog 25 #[.int .i64 x] w fun e w' => e = .returned (.tuple #[.int .i64 x, .int .i64 0]) ∧ w = w' := by
  go_enter Tryd.func25, Tryd.ntmps25
  go_wp2_with (go_at_call 10; refine (valid_yes _ _ h1 h2).mono ?_; rintro e w' ⟨rfl, rfl⟩)
  go_ret2
  exact ⟨rfl, rfl⟩
theorem bounded_no (x : Int) (w : World) (h : x < -1000000000000000 ∨ 1000000000000000 < x) :
    Calls Tryd.prog 25 #[.int .i64 x] w fun e w' => e = .returned (.tuple #[.int .i64 0, .int .i64 12]) ∧ w = w' := by
  have c := valid_no x w h
  clear h
  go_enter Tryd.func25, Tryd.ntmps25
  go_wp2_with (go_at_call 10; refine c.mono ?_; rintro e w' ⟨rfl, rfl⟩)
  go_ret2
  exact ⟨rfl, rfl⟩
end Go.Proofs.YtgikafojkcjllaaDoor
