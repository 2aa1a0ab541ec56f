/-
  A trade is the same as itself.
-/
import Derived.Test.YtjjaemobgfconaaDoorTr1
import Derived.WalkKit
import Derived.Deep.QuietTactic
import Derived.BigQuiet
import Derived.Laws.EntriesVeiled
import Derived.Lib.MinMax
import Derived.Deep.Light
namespace Go.Proofs.YtjjaemobgfconaaDoor
open Go.RowKit
set_option linter.unusedVariables false
set_option linter.unusedSimpArgs false
set_option linter.unnecessarySimpa false

theorem eq54 (a b : ByteArray) (w : World) : (Op.equalIn 9999 54 (.agg #[.string a, .string b]) (.agg #[.string a, .string b])).run Tryd.prog w = .ok true w := by
  have u9 := Tryd.underlying9
  have hsz : ∀ w, (sizeOf 9).run Tryd.prog w = .ok 1 w := fun w => by kernel_rfl
  rw [show (9999 : Nat) = 9998 + 1 from rfl, Op.equalIn]
  simp only [Sem.run_bind, run_underlying Tryd.underlying54, Result.andThen_ok]
  simp only [Std.Legacy.Range.forIn_eq_forIn_range', Std.Legacy.Range.size, Nat.sub_zero, Nat.add_sub_cancel, Nat.div_one, List.range'_succ, List.range'_zero, List.forIn_cons, List.forIn_nil]
  go_simp
set_option maxHeartbeats 4000000 in
theorem ne59 (t : Tr) (w : World) : (binOp .neq 59 (.agg #[.int .i64 t.k, .string t.d, .string t.r, .string t.a, .int .i64 t.q, .int .i64 t.m, .int .i64 t.td, .int .i64 t.sd, .int .i64 t.p, .bool t.pa, .int .i64 t.ml, .string t.r0, .string t.r1]) (.agg #[.int .i64 t.k, .string t.d, .string t.r, .string t.a, .int .i64 t.q, .int .i64 t.m, .int .i64 t.td, .int .i64 t.sd, .int .i64 t.p, .bool t.pa, .int .i64 t.ml, .string t.r0, .string t.r1])).run Tryd.prog w = .ok (.bool false) w := by
  have hS : Tryd.prog.underlying 59 = some (.struct (Tryd.prog.fieldsOf 59)) := by kernel_rfl
  have hp : Tryd.prog.stoodInHeld 59 = false := by kernel_rfl
  rw [run_neq_struct, show (10000 : Nat) = 9999 + 1 from rfl, run_equalIn_agg w 9999 59 _ _ hS hp]
  have e := eq54 t.r0 t.r1
  simp only [Program.fieldsOf, Tryd.underlying59]
  go_simp

end Go.Proofs.YtjjaemobgfconaaDoor
