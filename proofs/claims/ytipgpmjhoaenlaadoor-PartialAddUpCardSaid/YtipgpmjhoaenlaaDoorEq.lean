/-
  A trade is the same as itself.
-/
import Derived.Test.YtipgpmjhoaenlaaDoorP1
namespace Go.Proofs.YtipgpmjhoaenlaaDoor
open Go.RowKit
set_option linter.unusedVariables false
set_option linter.unusedSimpArgs false
set_option linter.unnecessarySimpa false

theorem eq22 (a b : ByteArray) (w : World) : (Op.equalIn 9999 22 (.agg #[.string a, .string b]) (.agg #[.string a, .string b])).run Tryd.prog w = .ok true w := by
  have u9 := Tryd.underlying9
  have hsz : ∀ w, (sizeOf 9).run Tryd.prog w = .ok 1 w := fun w => by kernel_rfl
  rw [show (9999 : Nat) = 9998 + 1 from rfl, Op.equalIn]
  simp only [Sem.run_bind, run_underlying Tryd.underlying22, Result.andThen_ok]
  simp only [Std.Legacy.Range.forIn_eq_forIn_range', Std.Legacy.Range.size, Nat.sub_zero, Nat.add_sub_cancel, Nat.div_one, List.range'_succ, List.range'_zero, List.forIn_cons, List.forIn_nil]
  go_simp
set_option maxHeartbeats 4000000 in
theorem eq24 (t : Tr) (w : World) : (binOp .eql 24 (.agg #[.int .i64 t.k, .string t.d, .string t.r, .string t.a, .int .i64 t.q, .int .i64 t.m, .int .i64 t.td, .int .i64 t.sd, .int .i64 t.p, .bool t.pa, .int .i64 t.ml, .string t.r0, .string t.r1]) (.agg #[.int .i64 t.k, .string t.d, .string t.r, .string t.a, .int .i64 t.q, .int .i64 t.m, .int .i64 t.td, .int .i64 t.sd, .int .i64 t.p, .bool t.pa, .int .i64 t.ml, .string t.r0, .string t.r1])).run Tryd.prog w = .ok (.bool true) w := by
  have hS : Tryd.prog.underlying 24 = some (.struct (Tryd.prog.fieldsOf 24)) := by kernel_rfl
  have hp : Tryd.prog.stoodInHeld 24 = false := by kernel_rfl
  rw [run_eql_struct, show (10000 : Nat) = 9999 + 1 from rfl, run_equalIn_agg w 9999 24 _ _ hS hp]
  have e := eq22 t.r0 t.r1
  simp only [Program.fieldsOf, Tryd.underlying24]
  go_simp
end Go.Proofs.YtipgpmjhoaenlaaDoor
