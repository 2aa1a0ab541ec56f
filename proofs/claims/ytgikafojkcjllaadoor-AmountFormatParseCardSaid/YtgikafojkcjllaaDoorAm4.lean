/-
  Contract of the rounding of a quotient (amount's method round) at this translation. Conditions: the parts of the quotient are below 2^62.
-/
import Derived.Test.YtgikafojkcjllaaDoorAm3
import Derived.Laws.EntriesVeiled
import Derived.WalkLawsBesides
namespace Go.Proofs.YtgikafojkcjllaaDoor
open Go.RowKit

/-- Whether a quotient is rounded away from zero. -/
def upB (neg : Bool) (size rest den mode : Int) : Bool :=
  decide (0 < rest) && (if mode = 0 then neg else if mode = 1 then !neg else if mode = 2 then decide (den < 2 * rest) || (decide (2 * rest = den) && decide (size % 2 = 1)) else false)
/-- The rounded quotient. -/
def rnd (neg : Bool) (size rest den mode : Int) : Int := if neg then -(if upB neg size rest den mode then size + 1 else size) else (if upB neg size rest den mode then size + 1 else size)

theorem round_zero (neg : Bool) (size den mode : Int) (w : World) (s1 : 0 ≤ size) (s2 : size ≤ 1000000000000000) :
    Calls Tryd.prog 26 #[.agg #[.bool neg, .int .u64 size, .int .u64 0, .int .u64 den], .int .i64 mode] w fun e w' => e = .returned (.int .i64 (rnd neg size 0 den mode)) ∧ Below w.heap.size w w' := by
  have hr : rnd neg size 0 den mode = if neg then -size else size := by simp [rnd, upB]
  rw [hr]
  clear hr
  cases neg
  · go_enter Tryd.func26, Tryd.ntmps26
    go_wp2
    go_ret
    exact ⟨rfl, ((Below.refl _ _).alloc (Nat.le_refl _) _).alloc (by simp) _⟩
  · go_enter Tryd.func26, Tryd.ntmps26
    go_wp2
    go_ret
    exact ⟨rfl, ((Below.refl _ _).alloc (Nat.le_refl _) _).alloc (by simp) _⟩

set_option maxHeartbeats 2000000 in
theorem round_01 (neg : Bool) (size rest den : Int) (w : World) (s1 : 0 ≤ size) (s2 : size ≤ 1000000000000000) (r1 : 0 < rest) :
    Calls Tryd.prog 26 #[.agg #[.bool neg, .int .u64 size, .int .u64 rest, .int .u64 den], .int .i64 0] w (fun e w' => e = .returned (.int .i64 (rnd neg size rest den 0)) ∧ Below w.heap.size w w') ∧
    Calls Tryd.prog 26 #[.agg #[.bool neg, .int .u64 size, .int .u64 rest, .int .u64 den], .int .i64 1] w (fun e w' => e = .returned (.int .i64 (rnd neg size rest den 1)) ∧ Below w.heap.size w w') ∧
    Calls Tryd.prog 26 #[.agg #[.bool neg, .int .u64 size, .int .u64 rest, .int .u64 den], .int .i64 3] w (fun e w' => e = .returned (.int .i64 (rnd neg size rest den 3)) ∧ Below w.heap.size w w') := by
  have h0 : rnd neg size rest den 0 = if neg then -(size + 1) else size := by cases neg <;> simp [rnd, upB, r1]
  have h1 : rnd neg size rest den 1 = if neg then -size else size + 1 := by cases neg <;> simp [rnd, upB, r1]
  have h3 : rnd neg size rest den 3 = if neg then -size else size := by cases neg <;> simp [rnd, upB]
  rw [h0, h1, h3]
  clear h0 h1 h3
  cases neg
  all_goals
    refine ⟨?_, ?_, ?_⟩
    all_goals
      go_enter Tryd.func26, Tryd.ntmps26
      go_wp2
      go_ret
      exact ⟨rfl, ((Below.refl _ _).alloc (Nat.le_refl _) _).alloc (by simp) _⟩

set_option maxHeartbeats 2000000 in
theorem round_2 (neg : Bool) (size rest den : Int) (w : World) (s1 : 0 ≤ size) (s2 : size ≤ 1000000000000000) (r1 : 0 < rest) (r2 : rest < den) (d2 : den ≤ 1000000000000000) :
    Calls Tryd.prog 26 #[.agg #[.bool neg, .int .u64 size, .int .u64 rest, .int .u64 den], .int .i64 2] w (fun e w' => e = .returned (.int .i64 (rnd neg size rest den 2)) ∧ Below w.heap.size w w') := by
  by_cases g : den < 2 * rest
  · have h : rnd neg size rest den 2 = if neg then -(size + 1) else size + 1 := by cases neg <;> simp [rnd, upB, r1, g]
    rw [h]
    clear h
    cases neg
    all_goals
      go_enter Tryd.func26, Tryd.ntmps26
      go_wp2
      go_ret
      exact ⟨rfl, ((Below.refl _ _).alloc (Nat.le_refl _) _).alloc (by simp) _⟩
  · by_cases q : 2 * rest = den
    · have q1 : (2 * rest == den) = true := by simpa using q
      by_cases o : size % 2 = 1
      · have h : rnd neg size rest den 2 = if neg then -(size + 1) else size + 1 := by cases neg <;> simp [rnd, upB, r1, q, o]
        have o1 : (size % 2 == 1) = true := by simpa using o
        rw [h]
        clear h q o
        cases neg
        all_goals
          go_enter Tryd.func26, Tryd.ntmps26
          go_wp2
          go_ret
          exact ⟨rfl, ((Below.refl _ _).alloc (Nat.le_refl _) _).alloc (by simp) _⟩
      · have h : rnd neg size rest den 2 = if neg then -size else size := by cases neg <;> simp [rnd, upB, q, o]
        have o1 : (size % 2 == 1) = false := by simpa using o
        rw [h]
        clear h q o
        cases neg
        all_goals
          go_enter Tryd.func26, Tryd.ntmps26
          go_wp2
          go_ret
          exact ⟨rfl, ((Below.refl _ _).alloc (Nat.le_refl _) _).alloc (by simp) _⟩
    · have h : rnd neg size rest den 2 = if neg then -size else size := by cases neg <;> simp [rnd, upB, g, q]
      have q1 : (2 * rest == den) = false := by simpa using q
      rw [h]
      clear h q
      cases neg
      all_goals
        go_enter Tryd.func26, Tryd.ntmps26
        go_wp2
        go_ret
        exact ⟨rfl, ((Below.refl _ _).alloc (Nat.le_refl _) _).alloc (by simp) _⟩

/-- The method round. -/
theorem round_any (neg : Bool) (size rest den mode : Int) (w : World) (s1 : 0 ≤ size) (s2 : size ≤ 1000000000000000) (r1 : 0 ≤ rest) (r2 : rest < den) (d2 : den ≤ 1000000000000000) (m1 : 0 ≤ mode) (m2 : mode ≤ 3) :
    Calls Tryd.prog 26 #[.agg #[.bool neg, .int .u64 size, .int .u64 rest, .int .u64 den], .int .i64 mode] w (fun e w' => e = .returned (.int .i64 (rnd neg size rest den mode)) ∧ Below w.heap.size w w') := by
  by_cases hr : rest = 0
  · subst hr; exact round_zero neg size den mode w s1 s2
  · have hp : 0 < rest := by omega
    have h : mode = 0 ∨ mode = 1 ∨ mode = 2 ∨ mode = 3 := by omega
    have hh := round_01 neg size rest den w s1 s2 hp
    rcases h with rfl | rfl | rfl | rfl
    · exact hh.1
    · exact hh.2.1
    · exact round_2 neg size rest den w s1 s2 hp r2 d2
    · exact hh.2.2
end Go.Proofs.YtgikafojkcjllaaDoor
