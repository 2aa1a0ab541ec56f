/-
  Contract of the check of a trade's numbers at this translation.
-/
import Derived.Test.YtipgpmjhoaenlaaDoorP1
import Derived.Deep.Light
namespace Go.Proofs.YtipgpmjhoaenlaaDoor
open Go.RowKit
set_option linter.unusedVariables false
set_option linter.unusedSimpArgs false

/-- What the check of a trade's numbers answers. -/
def nE (t : Tr) : Int :=
  if t.q < 1 ∨ 1000000000000000 < t.q then 2
  else if (t.k = 1 ∧ (t.m < 1 ∨ 1000000000000000 < t.m)) ∨ (t.k = 2 ∧ t.m ≠ 0) then 2
  else if t.sd < 0 ∨ 73048 < t.sd ∨ t.td < 0 ∨ t.sd < t.td then 28
  else if t.p < 0 ∨ 2 < t.p then 2
  else if (t.pa = true ∧ (t.ml < 1 ∨ t.q < t.ml)) ∨ (¬ t.pa = true ∧ t.ml ≠ 0) then 2
  else 0
set_option maxHeartbeats 4000000 in
theorem num_any (t : Tr) (w : World) (h : t.Ok) : Calls Tryd.prog 31 #[.agg #[.int .i64 t.k, .string t.d, .string t.r, .string t.a, .int .i64 t.q, .int .i64 t.m, .int .i64 t.td, .int .i64 t.sd, .int .i64 t.p, .bool t.pa, .int .i64 t.ml, .string t.r0, .string t.r1]] w fun e w' => e = .returned (.int .i64 (nE t)) ∧ Below w.heap.size w w' := by
  clear h
  go_enter Tryd.func31, Tryd.ntmps31
  go_wp2_with fail
  all_goals
    go_ret
    refine ⟨ret_i ?_, one_alloc _ _⟩
    go_light
    unfold nE
    simp only [bne_iff_ne, bne_eq_false_iff_eq, beq_iff_eq, beq_eq_false_iff_ne, ne_eq] at *
    repeat' split
    all_goals first | rfl | (exfalso; simp_all; done) | (exfalso; simp_all; omega) | omega
end Go.Proofs.YtipgpmjhoaenlaaDoor
