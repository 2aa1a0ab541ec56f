/-
  One contract for each side's four operations at this translation. Conditions: the operation is 0 to 3, the fractions fit their kinds.
-/
import Derived.Test.YtmdgjgeblplhpaaDoorFr8
import Derived.Test.YtmdgjgeblplhpaaDoorFr7
namespace Go.Proofs.YtmdgjgeblplhpaaDoor
open Go.RowKit
set_option linter.unusedVariables false

theorem comb_any (k n1 d1 n2 d2 : Int) (w : World) (k0 : 0 ≤ k) (k1 : k ≤ 3) (a1 : I64 n1) (a2 : I64 d1) (a3 : I64 n2) (a4 : I64 d2) :
    Calls Tryd.prog 19 #[.int .i64 k, .agg #[.int .i64 n1, .int .i64 d1], .agg #[.int .i64 n2, .int .i64 d2]] w fun e w' => e = .returned (.tuple #[.agg #[.int .i64 (cbN k n1 d1 n2 d2), .int .i64 (cbD k n1 d1 n2 d2)], .int .i64 (cbE k n1 d1 n2 d2)]) ∧ Below w.heap.size w w' := by
  have h : k = 0 ∨ k = 1 ∨ k = 2 ∨ k = 3 := by omega
  rcases h with rfl | rfl | rfl | rfl
  · exact comb0 n1 d1 n2 d2 w a1 a2 a3 a4
  · exact comb1 n1 d1 n2 d2 w a1 a2 a3 a4
  · exact comb2 n1 d1 n2 d2 w a1 a2 a3 a4
  · exact comb3 n1 d1 n2 d2 w a1 a2 a3 a4
theorem rcomb_any (k n1 d1 n2 d2 : Int) (w : World) (k0 : 0 ≤ k) (k1 : k ≤ 3) (a1 : I64 n1) (a2 : I64 d1) (a3 : I64 n2) (a4 : I64 d2) :
    Calls Tryd.prog 20 #[.int .i64 k, .agg #[.int .i64 n1, .int .i64 d1], .agg #[.int .i64 n2, .int .i64 d2]] w fun e w' => e = .returned (.tuple #[.agg #[.int .i64 (cbN k n1 d1 n2 d2), .int .i64 (cbD k n1 d1 n2 d2)], .int .i64 (cbE k n1 d1 n2 d2)]) ∧ Below w.heap.size w w' := by
  have h : k = 0 ∨ k = 1 ∨ k = 2 ∨ k = 3 := by omega
  rcases h with rfl | rfl | rfl | rfl
  · exact rcomb0 n1 d1 n2 d2 w a1 a2 a3 a4
  · exact rcomb1 n1 d1 n2 d2 w a1 a2 a3 a4
  · exact rcomb2 n1 d1 n2 d2 w a1 a2 a3 a4
  · exact rcomb3 n1 d1 n2 d2 w a1 a2 a3 a4
end Go.Proofs.YtmdgjgeblplhpaaDoor
