/-
  A trade by value; the conversions of the law at this translation.
-/
import Derived.Test.YtipgpmjhoaenlaaDoorAm3
import Derived.Deep.RegionHeld3
namespace Go.Proofs.YtipgpmjhoaenlaaDoor
open Go.RowKit
set_option linter.unusedVariables false
set_option linter.unusedSimpArgs false

/-- A trade. -/
structure Tr where
  k : Int
  d : ByteArray
  r : ByteArray
  a : ByteArray
  q : Int
  m : Int
  td : Int
  sd : Int
  p : Int
  pa : Bool
  ml : Int
  r0 : ByteArray
  r1 : ByteArray
/-- Its numbers fit their kind, its strings are no longer than a string can be. -/
structure Tr.Ok (t : Tr) : Prop where
  k : -9223372036854775808 ≤ t.k ∧ t.k ≤ 9223372036854775807
  q : -9223372036854775808 ≤ t.q ∧ t.q ≤ 9223372036854775807
  m : -9223372036854775808 ≤ t.m ∧ t.m ≤ 9223372036854775807
  td : -9223372036854775808 ≤ t.td ∧ t.td ≤ 9223372036854775807
  sd : -9223372036854775808 ≤ t.sd ∧ t.sd ≤ 9223372036854775807
  p : -9223372036854775808 ≤ t.p ∧ t.p ≤ 9223372036854775807
  ml : -9223372036854775808 ≤ t.ml ∧ t.ml ≤ 9223372036854775807
  d : t.d.size ≤ 9223372036854775807
  r : t.r.size ≤ 9223372036854775807
  a : t.a.size ≤ 9223372036854775807
  r0 : t.r0.size ≤ 9223372036854775807
  r1 : t.r1.size ≤ 9223372036854775807
theorem two_allocs (w : World) (a b : Obj) : Below w.heap.size w ((w.alloc a).alloc b) := ((Below.refl _ _).alloc (Nat.le_refl _) _).alloc (by simp) _
theorem one_alloc (w : World) (a : Obj) : Below w.heap.size w (w.alloc a) := (Below.refl _ _).alloc (Nat.le_refl _) _
set_option maxHeartbeats 2000000 in
theorem lof_any (t : Tr) (w : World) : Calls Tryd.prog 9 #[.agg #[.int .i64 t.k, .string t.d, .string t.r, .string t.a, .int .i64 t.q, .int .i64 t.m, .int .i64 t.td, .int .i64 t.sd, .int .i64 t.p, .bool t.pa, .int .i64 t.ml, .string t.r0, .string t.r1]] w fun e w' => e = .returned (.agg #[.int .i64 t.k, .string t.d, .string t.r, .string t.a, .int .i64 t.q, .int .i64 t.m, .int .i64 t.td, .int .i64 t.sd, .int .i64 t.p, .bool t.pa, .int .i64 t.ml, .string t.r0, .string t.r1]) ∧ Below w.heap.size w w' := by
  go_enter Tryd.func9, Tryd.ntmps9
  go_wp2_with fail
  exact bodyPost_ret (v := .agg #[.int .i64 t.k, .string t.d, .string t.r, .string t.a, .int .i64 t.q, .int .i64 t.m, .int .i64 t.td, .int .i64 t.sd, .int .i64 t.p, .bool t.pa, .int .i64 t.ml, .string t.r0, .string t.r1]) (by simp [results, Tryd.results9, go_sem]) rfl ⟨rfl, two_allocs _ _ _⟩
set_option maxHeartbeats 2000000 in
theorem lto_any (t : Tr) (w : World) : Calls Tryd.prog 29 #[.agg #[.int .i64 t.k, .string t.d, .string t.r, .string t.a, .int .i64 t.q, .int .i64 t.m, .int .i64 t.td, .int .i64 t.sd, .int .i64 t.p, .bool t.pa, .int .i64 t.ml, .string t.r0, .string t.r1]] w fun e w' => e = .returned (.agg #[.int .i64 t.k, .string t.d, .string t.r, .string t.a, .int .i64 t.q, .int .i64 t.m, .int .i64 t.td, .int .i64 t.sd, .int .i64 t.p, .bool t.pa, .int .i64 t.ml, .string t.r0, .string t.r1]) ∧ Below w.heap.size w w' := by
  go_enter Tryd.func29, Tryd.ntmps29
  go_wp2_with fail
  exact bodyPost_ret (v := .agg #[.int .i64 t.k, .string t.d, .string t.r, .string t.a, .int .i64 t.q, .int .i64 t.m, .int .i64 t.td, .int .i64 t.sd, .int .i64 t.p, .bool t.pa, .int .i64 t.ml, .string t.r0, .string t.r1]) (by simp [results, Tryd.results29, go_sem]) rfl ⟨rfl, two_allocs _ _ _⟩
end Go.Proofs.YtipgpmjhoaenlaaDoor
