/-
  Contracts of the reference's Valid and checked at this translation.
-/
import Derived.Test.YtgikafojkcjllaaDoorAm5
namespace Go.Proofs.YtgikafojkcjllaaDoor
open Go.RowKit
set_option linter.unusedVariables false
set_option linter.unusedSimpArgs false

theorem refvalid_any (x : Int) (w : World) : Calls Tryd.prog 13 #[.int .i64 x] w fun e w' => e = .returned (.bool (okB x)) ∧ w = w' := by
  by_cases h1 : -1000000000000000 ≤ x
  · by_cases h2 : x ≤ 1000000000000000
    · rw [okB_yes ⟨h1, h2⟩]
      go_enter Tryd.func13, Tryd.ntmps13
      go_wp2
      go_ret
      exact ⟨rfl, rfl⟩
    · rw [okB_no (fun h => h2 h.2)]
      have hd : decide (x ≤ 1000000000000000) = false := by simp; omega
      go_enter Tryd.func13, Tryd.ntmps13
      go_wp2
      go_ret
      exact ⟨rfl, rfl⟩
  · rw [okB_no (fun h => h1 h.1)]
    go_enter Tryd.func13, Tryd.ntmps13
    go_wp2
    go_ret
    exact ⟨rfl, rfl⟩

/-- A result that is checked. -/
def chkV (x : Int) : Int := if okA x then x else 0
def chkE (x : Int) : Int := if okA x then 0 else 12
theorem refchecked_any (x : Int) (w : World) : Calls Tryd.prog 22 #[.int .i64 x] w fun e w' => e = .returned (.tuple #[.int .i64 (chkV x), .int .i64 (chkE x)]) ∧ w = w' := by
  have c := fun w => hide (refvalid_any x w)
  unfold chkV chkE
  by_cases h : okA x
  · rw [if_pos h, if_pos h]
    have hb := okB_yes h
    clear h
    go_enter Tryd.func22, Tryd.ntmps22
    go_wp2_with fail
    refine (c _).out.mono ?_
    rintro e w' ⟨rfl, rfl⟩
    go_wp2_with fail
    go_ret2
    exact ⟨rfl, rfl⟩
  · rw [if_neg h, if_neg h]
    have hb := okB_no h
    clear h
    go_enter Tryd.func22, Tryd.ntmps22
    go_wp2_with fail
    refine (c _).out.mono ?_
    rintro e w' ⟨rfl, rfl⟩
    go_wp2_with fail
    go_ret2
    exact ⟨rfl, rfl⟩
end Go.Proofs.YtgikafojkcjllaaDoor
