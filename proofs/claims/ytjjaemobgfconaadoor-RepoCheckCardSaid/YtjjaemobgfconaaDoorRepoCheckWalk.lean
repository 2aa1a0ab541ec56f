/-
  RepoCheck: the walk.
-/
import Derived.Test.YtjjaemobgfconaaDoorED
import Derived.Test.YtjjaemobgfconaaDoorRepoInterestWalk
import Derived.WalkKit
import Derived.Deep.QuietTactic
import Derived.BigQuiet
import Derived.Laws.EntriesVeiled
import Derived.Lib.MinMax
import Derived.Deep.Light
namespace Go.Proofs.YtjjaemobgfconaaDoor
open Go.RowKit
set_option linter.unusedVariables false
set_option linter.unusedSimpArgs false
set_option linter.unnecessarySimpa false

set_option maxHeartbeats 8000000 in
set_option maxRecDepth 20000 in
theorem repoCheck_walk (t : Ag) (day : Int) (w : World) (h : t.Ok) (w1 : (Lit.int .i64 day).wf = true) (hL : laidMetH Tryd.prog laid w) :
    Calls Tryd.prog 3 #[.agg #[.string t.rf, .string t.se, .string t.bu, .string t.sn, .int .i64 t.q, .int .i64 t.c, .int .i64 t.n, .int .i64 t.d, .int .i64 t.op, .int .i64 t.cl], .int .i64 day] w fun e w' => e = .returned (.bool true) ∧ Below w.heap.size w w' := by
  have S := hide (shp_of hL)
  have CV := fun w => hide (conv_any t w)
  have CK := fun w S => hide (acheck_any t w S h)
  have RC := fun w => hide (racheck_any t w h)
  have KN := fun w S => hide (known_any w S)
  have RP := fun w S => hide (repay_any t w S h)
  have RR := fun w => hide (rrepay_any t w h)
  have IN := fun w S => hide (interest_any t day w S h (wfi w1).1 (wfi w1).2)
  have RI := fun w => hide (rinterest_any t day w h (wfi w1).1 (wfi w1).2)
  have HR := hide (one_alloc w (Obj.cells #[.string t.rf, .string t.se, .string t.bu, .string t.sn, .int .i64 t.q, .int .i64 t.c, .int .i64 t.n, .int .i64 t.d, .int .i64 t.op, .int .i64 t.cl] 25))
  have HB := hide (RB.new t w 25)
  clear h hL w1
  generalize agE t = E at *
  generalize reV t = V at *
  generalize inE t day = F at *
  generalize inV t day = U at *
  go_enter Tryd.func3, Tryd.ntmps3
  obtain ⟨_, c0, c1, c2, c3, c4, c5, c6, c7, c8, c9⟩ := HB.out
  go_wp2_with fail
  refine ((CV _).out).mono ?_
  rintro e x ⟨rfl, hb⟩
  have HB := hide (HB.out.keep hb)
  have HR := hide (HR.out.trans (hb.mono HR.out.size))
  clear hb c0 c1 c2 c3 c4 c5 c6 c7 c8 c9
  have ha := one_alloc x (Obj.cells #[.string t.rf, .string t.se, .string t.bu, .string t.sn, .int .i64 t.q, .int .i64 t.c, .int .i64 t.n, .int .i64 t.d, .int .i64 t.op, .int .i64 t.cl] 28)
  have HC := hide (RB.new t x 28)
  have HB := hide (HB.out.keep ha)
  have HR := hide (HR.out.trans (ha.mono HR.out.size))
  clear ha
  go_wp2_with fail
  generalize x.alloc (Obj.cells #[.string t.rf, .string t.se, .string t.bu, .string t.sn, .int .i64 t.q, .int .i64 t.c, .int .i64 t.n, .int .i64 t.d, .int .i64 t.op, .int .i64 t.cl] 28) = y at *
  generalize x.heap.size = B at *
  refine ((IN _ (S.out.keep HR.out)).out).mono ?_
  rintro e y1 ⟨rfl, hb⟩
  have HB := hide (HB.out.keep hb)
  have HC := hide (HC.out.keep hb)
  have HR := hide (HR.out.trans (hb.mono HR.out.size))
  clear hb
  try clear c0 c1 c2 c3 c4 c5 c6 c7 c8 c9
  try clear e0 e1 e2 e3 e4 e5 e6 e7 e8 e9
  obtain ⟨_, c0, c1, c2, c3, c4, c5, c6, c7, c8, c9⟩ := HC.out
  obtain ⟨_, e0, e1, e2, e3, e4, e5, e6, e7, e8, e9⟩ := HB.out
  go_wp2_with fail
  refine ((RI _).out).mono ?_
  rintro e y2 ⟨rfl, hb⟩
  have HB := hide (HB.out.keep hb)
  have HC := hide (HC.out.keep hb)
  have HR := hide (HR.out.trans (hb.mono HR.out.size))
  clear hb
  try clear c0 c1 c2 c3 c4 c5 c6 c7 c8 c9
  try clear e0 e1 e2 e3 e4 e5 e6 e7 e8 e9
  obtain ⟨_, c0, c1, c2, c3, c4, c5, c6, c7, c8, c9⟩ := HC.out
  obtain ⟨_, e0, e1, e2, e3, e4, e5, e6, e7, e8, e9⟩ := HB.out
  go_wp2_with fail
  refine ((RP _ (S.out.keep HR.out)).out).mono ?_
  rintro e y3 ⟨rfl, hb⟩
  have HB := hide (HB.out.keep hb)
  have HC := hide (HC.out.keep hb)
  have HR := hide (HR.out.trans (hb.mono HR.out.size))
  clear hb
  try clear c0 c1 c2 c3 c4 c5 c6 c7 c8 c9
  try clear e0 e1 e2 e3 e4 e5 e6 e7 e8 e9
  obtain ⟨_, c0, c1, c2, c3, c4, c5, c6, c7, c8, c9⟩ := HC.out
  obtain ⟨_, e0, e1, e2, e3, e4, e5, e6, e7, e8, e9⟩ := HB.out
  go_wp2_with fail
  refine ((RR _).out).mono ?_
  rintro e X ⟨rfl, hb⟩
  have HB := hide (HB.out.keep hb)
  have HC := hide (HC.out.keep hb)
  have HR := hide (HR.out.trans (hb.mono HR.out.size))
  clear hb
  try clear c0 c1 c2 c3 c4 c5 c6 c7 c8 c9
  try clear e0 e1 e2 e3 e4 e5 e6 e7 e8 e9
  obtain ⟨_, c0, c1, c2, c3, c4, c5, c6, c7, c8, c9⟩ := HC.out
  obtain ⟨_, e0, e1, e2, e3, e4, e5, e6, e7, e8, e9⟩ := HB.out
  go_wp2_with fail
  clear c0 c1 c2 c3 c4 c5 c6 c7 c8 c9 e0 e1 e2 e3 e4 e5 e6 e7 e8 e9
  have KS : ∀ y : Sub X, Hid (Shp y.val) := fun y => hide (S.out.keep (HR.out.trans (y.below.mono HR.out.size)))
  have k0 : ∀ z : Sub X, z.val.cell? ⟨w.heap.size, 0, none⟩ = some (.string t.rf) := fun z => (HB.out.keep z.below).c0
  have k1 : ∀ z : Sub X, z.val.cell? ⟨w.heap.size, 1, none⟩ = some (.string t.se) := fun z => (HB.out.keep z.below).c1
  have k2 : ∀ z : Sub X, z.val.cell? ⟨w.heap.size, 2, none⟩ = some (.string t.bu) := fun z => (HB.out.keep z.below).c2
  have k3 : ∀ z : Sub X, z.val.cell? ⟨w.heap.size, 3, none⟩ = some (.string t.sn) := fun z => (HB.out.keep z.below).c3
  have k4 : ∀ z : Sub X, z.val.cell? ⟨w.heap.size, 4, none⟩ = some (.int .i64 t.q) := fun z => (HB.out.keep z.below).c4
  have k5 : ∀ z : Sub X, z.val.cell? ⟨w.heap.size, 5, none⟩ = some (.int .i64 t.c) := fun z => (HB.out.keep z.below).c5
  have k6 : ∀ z : Sub X, z.val.cell? ⟨w.heap.size, 6, none⟩ = some (.int .i64 t.n) := fun z => (HB.out.keep z.below).c6
  have k7 : ∀ z : Sub X, z.val.cell? ⟨w.heap.size, 7, none⟩ = some (.int .i64 t.d) := fun z => (HB.out.keep z.below).c7
  have k8 : ∀ z : Sub X, z.val.cell? ⟨w.heap.size, 8, none⟩ = some (.int .i64 t.op) := fun z => (HB.out.keep z.below).c8
  have k9 : ∀ z : Sub X, z.val.cell? ⟨w.heap.size, 9, none⟩ = some (.int .i64 t.cl) := fun z => (HB.out.keep z.below).c9
  have j0 : ∀ z : Sub X, z.val.cell? ⟨B, 0, none⟩ = some (.string t.rf) := fun z => (HC.out.keep z.below).c0
  have j1 : ∀ z : Sub X, z.val.cell? ⟨B, 1, none⟩ = some (.string t.se) := fun z => (HC.out.keep z.below).c1
  have j2 : ∀ z : Sub X, z.val.cell? ⟨B, 2, none⟩ = some (.string t.bu) := fun z => (HC.out.keep z.below).c2
  have j3 : ∀ z : Sub X, z.val.cell? ⟨B, 3, none⟩ = some (.string t.sn) := fun z => (HC.out.keep z.below).c3
  have j4 : ∀ z : Sub X, z.val.cell? ⟨B, 4, none⟩ = some (.int .i64 t.q) := fun z => (HC.out.keep z.below).c4
  have j5 : ∀ z : Sub X, z.val.cell? ⟨B, 5, none⟩ = some (.int .i64 t.c) := fun z => (HC.out.keep z.below).c5
  have j6 : ∀ z : Sub X, z.val.cell? ⟨B, 6, none⟩ = some (.int .i64 t.n) := fun z => (HC.out.keep z.below).c6
  have j7 : ∀ z : Sub X, z.val.cell? ⟨B, 7, none⟩ = some (.int .i64 t.d) := fun z => (HC.out.keep z.below).c7
  have j8 : ∀ z : Sub X, z.val.cell? ⟨B, 8, none⟩ = some (.int .i64 t.op) := fun z => (HC.out.keep z.below).c8
  have j9 : ∀ z : Sub X, z.val.cell? ⟨B, 9, none⟩ = some (.int .i64 t.cl) := fun z => (HC.out.keep z.below).c9
  refine wp_region_sub (w0 := X) (by kernel_rfl) (by kernel_rfl) (Below.refl _ _).drew ?_
  repeat (first | go_big_quiet_step ((first | (go_at_call 13; exact sub_of _ (KN _ (KS _).out).out) | (go_at_call 14; exact sub_of _ (CK _ (KS _).out).out) | (go_at_call 15; exact sub_of _ (RC _).out))) | quiet_step ((first | (go_at_call 13; exact sub_of _ (KN _ (KS _).out).out) | (go_at_call 14; exact sub_of _ (CK _ (KS _).out).out) | (go_at_call 15; exact sub_of _ (RC _).out))))
  refine wpQuiet_nil ?_
  rintro _ ⟨z, rfl⟩
  go_wp2_with fail
  go_ret
  exact ⟨rfl, HR.out.trans (z.below.mono HR.out.size)⟩

end Go.Proofs.YtjjaemobgfconaaDoor
