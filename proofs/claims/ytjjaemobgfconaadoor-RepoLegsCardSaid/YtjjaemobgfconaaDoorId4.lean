/-
  Contracts of ident's classes of characters at this translation.
-/
import Derived.Test.YtjjaemobgfconaaDoorId3
import Derived.Deep.RegionHeld3
import Derived.Laws.EntriesVeiled
namespace Go.Proofs.YtjjaemobgfconaaDoor
open Go.RowKit
set_option linter.unusedVariables false

/-- A byte is of a class. -/
def inC (k c : Int) : Bool := if k = 0 then isL c else if k = 1 then isD c else if k = 2 then isL c || isD c else (isL c || isD c || decide (c = 45))
/-- The functions of the classes lie in two blocks. -/
def Two (p q : Nat) (W : World) : Prop := W.cell? ⟨p, 0, none⟩ = some (.func (.func 71) #[] #[]) ∧ W.cell? ⟨q, 0, none⟩ = some (.func (.func 72) #[] #[])
set_option maxHeartbeats 2000000 in
theorem ia_any (c : Int) (p q : Nat) (w : World) (h : Two p q w) : Calls Tryd.prog 73 #[.int .u8 c, .pointer (some ⟨p, 0, none⟩), .pointer (some ⟨q, 0, none⟩)] w fun e w' => e = .returned (.bool (inC 2 c)) ∧ w = w' := by
  obtain ⟨c0, c1⟩ := h
  have le := fun w => hide (il_any c w)
  have di := fun w => hide (id_any c w)
  have e : inC 2 c = (isL c || isD c) := by simp [inC]
  rw [e]
  clear e
  cases hL : isL c <;> cases hD : isD c <;> rw [hL] at le <;> rw [hD] at di <;> clear hL hD
  all_goals
    go_enter Tryd.func73, Tryd.ntmps73
    go_wp2_with (first | (go_at_call 71; refine (le _).out.mono ?_; rintro e w' ⟨rfl, rfl⟩) | (go_at_call 72; refine (di _).out.mono ?_; rintro e w' ⟨rfl, rfl⟩))
    go_ret
    exact ⟨rfl, rfl⟩
set_option maxHeartbeats 2000000 in
theorem ie_any (c : Int) (p q : Nat) (w : World) (h : Two p q w) : Calls Tryd.prog 74 #[.int .u8 c, .pointer (some ⟨p, 0, none⟩), .pointer (some ⟨q, 0, none⟩)] w fun e w' => e = .returned (.bool (inC 3 c)) ∧ w = w' := by
  obtain ⟨c0, c1⟩ := h
  have le := fun w => hide (il_any c w)
  have di := fun w => hide (id_any c w)
  by_cases h45 : c = 45
  · subst h45
    have e : inC 3 45 = true := by simp [inC]
    rw [e]
    clear e
    rw [isL_no (by omega)] at le
    rw [isD_no (by omega)] at di
    go_enter Tryd.func74, Tryd.ntmps74
    go_wp2_with (first | (go_at_call 71; refine (le _).out.mono ?_; rintro e w' ⟨rfl, rfl⟩) | (go_at_call 72; refine (di _).out.mono ?_; rintro e w' ⟨rfl, rfl⟩))
    go_ret
    exact ⟨rfl, rfl⟩
  · have e : inC 3 c = (isL c || isD c) := by simp [inC, h45]
    rw [e]
    clear e
    have h45b : (c == 45) = false := by simpa using h45
    cases hL : isL c <;> cases hD : isD c <;> rw [hL] at le <;> rw [hD] at di <;> clear hL hD
    all_goals
      go_enter Tryd.func74, Tryd.ntmps74
      go_wp2_with (first | (go_at_call 71; refine (le _).out.mono ?_; rintro e w' ⟨rfl, rfl⟩) | (go_at_call 72; refine (di _).out.mono ?_; rintro e w' ⟨rfl, rfl⟩))
      go_ret
      exact ⟨rfl, rfl⟩

end Go.Proofs.YtjjaemobgfconaaDoor
