/-
  RepoLegs: the walk.
-/
import Derived.Test.YtjjaemobgfconaaDoorLe3
import Derived.Test.YtjjaemobgfconaaDoorEq
import Derived.Test.YtjjaemobgfconaaDoorEC
import Derived.Test.YtjjaemobgfconaaDoorRepoInterestWalk
import Derived.WalkKit
import Derived.Deep.QuietTactic
import Derived.BigQuiet
import Derived.Laws.EntriesVeiled
import Derived.Lib.MinMax
import Derived.Deep.Light
namespace Go.Proofs.YtjjaemobgfconaaDoor
open Go.RowKit
set_option linter.unusedVariables false
set_option linter.unusedSimpArgs false
set_option linter.unnecessarySimpa false

set_option maxHeartbeats 16000000 in
set_option maxRecDepth 20000 in
theorem repoLegs_walk (t : Ag) (w : World) (h : t.Ok) (hL : laidMetH Tryd.prog laid w) :
    Calls Tryd.prog 7 #[.agg #[.string t.rf, .string t.se, .string t.bu, .string t.sn, .int .i64 t.q, .int .i64 t.c, .int .i64 t.n, .int .i64 t.d, .int .i64 t.op, .int .i64 t.cl]] w fun e w' => e = .returned (.bool true) ∧ Below w.heap.size w w' := by
  have S := hide (shp_of hL)
  have LG := fun w S => hide (legs_any t w S h)
  have RL := fun w => hide (rlegs_any t w h)
  have KN := fun w S => hide (known_any w S)
  have QA : agE t = 0 → ∀ w, Shp w → Hid (Calls Tryd.prog 27 #[.agg #[.int .i64 (leA t).k, .string (leA t).d, .string (leA t).r, .string (leA t).a, .int .i64 (leA t).q, .int .i64 (leA t).m, .int .i64 (leA t).td, .int .i64 (leA t).sd, .int .i64 (leA t).p, .bool (leA t).pa, .int .i64 (leA t).ml, .string (leA t).r0, .string (leA t).r1]] w fun e w' => e = .returned (.int .i64 0) ∧ Below w.heap.size w w') := fun hz w S => hide (by have e : leA t = lgA t := if_pos hz; have k := tcheck_any (lgA t) w S (lgA_ok h hz).1; rw [(lg_sound hz).1, ← e] at k; exact k)
  have QB : agE t = 0 → ∀ w, Shp w → Hid (Calls Tryd.prog 27 #[.agg #[.int .i64 (leB t).k, .string (leB t).d, .string (leB t).r, .string (leB t).a, .int .i64 (leB t).q, .int .i64 (leB t).m, .int .i64 (leB t).td, .int .i64 (leB t).sd, .int .i64 (leB t).p, .bool (leB t).pa, .int .i64 (leB t).ml, .string (leB t).r0, .string (leB t).r1]] w fun e w' => e = .returned (.int .i64 0) ∧ Below w.heap.size w w') := fun hz w S => hide (by have e : leB t = lgB t := if_pos hz; have k := tcheck_any (lgB t) w S (lgA_ok h hz).2; rw [(lg_sound hz).2, ← e] at k; exact k)
  generalize leA t = x at *
  generalize leB t = y at *
  generalize agE t = E at *
  have HR := hide (one_alloc w (Obj.cells #[.string t.rf, .string t.se, .string t.bu, .string t.sn, .int .i64 t.q, .int .i64 t.c, .int .i64 t.n, .int .i64 t.d, .int .i64 t.op, .int .i64 t.cl] 25))
  have HB := hide (RB.new t w 25)
  clear h hL
  go_enter Tryd.func7, Tryd.ntmps7
  obtain ⟨_, c0, c1, c2, c3, c4, c5, c6, c7, c8, c9⟩ := HB.out
  go_wp2_with fail
  refine ((conv_any _ _)).mono ?_
  rintro e x1 ⟨rfl, hb⟩
  have HB := hide (HB.out.keep hb)
  have HR := hide (HR.out.trans (hb.mono HR.out.size))
  clear hb
  clear c0 c1 c2 c3 c4 c5 c6 c7 c8 c9
  obtain ⟨_, c0, c1, c2, c3, c4, c5, c6, c7, c8, c9⟩ := HB.out
  go_wp2_with fail
  refine ((LG _ (S.out.keep HR.out)).out).mono ?_
  rintro e x2 ⟨rfl, hb⟩
  have HB := hide (HB.out.keep hb)
  have HR := hide (HR.out.trans (hb.mono HR.out.size))
  clear hb
  clear c0 c1 c2 c3 c4 c5 c6 c7 c8 c9
  obtain ⟨_, c0, c1, c2, c3, c4, c5, c6, c7, c8, c9⟩ := HB.out
  go_wp2_with fail
  have hs3 : (x2.alloc (Obj.cells #[.int .i64 x.k, .string x.d, .string x.r, .string x.a, .int .i64 x.q, .int .i64 x.m, .int .i64 x.td, .int .i64 x.sd, .int .i64 x.p, .bool x.pa, .int .i64 x.ml, .string x.r0, .string x.r1] 56)).heap.size = x2.heap.size + 1 := Array.size_push _
  have hb := two_allocs x2 (Obj.cells #[.int .i64 x.k, .string x.d, .string x.r, .string x.a, .int .i64 x.q, .int .i64 x.m, .int .i64 x.td, .int .i64 x.sd, .int .i64 x.p, .bool x.pa, .int .i64 x.ml, .string x.r0, .string x.r1] 56) (Obj.cells #[.int .i64 y.k, .string y.d, .string y.r, .string y.a, .int .i64 y.q, .int .i64 y.m, .int .i64 y.td, .int .i64 y.sd, .int .i64 y.p, .bool y.pa, .int .i64 y.ml, .string y.r0, .string y.r1] 56)
  have HX := hide ((TB.new x x2 56).keep (one_alloc (x2.alloc (Obj.cells #[.int .i64 x.k, .string x.d, .string x.r, .string x.a, .int .i64 x.q, .int .i64 x.m, .int .i64 x.td, .int .i64 x.sd, .int .i64 x.p, .bool x.pa, .int .i64 x.ml, .string x.r0, .string x.r1] 56)) (Obj.cells #[.int .i64 y.k, .string y.d, .string y.r, .string y.a, .int .i64 y.q, .int .i64 y.m, .int .i64 y.td, .int .i64 y.sd, .int .i64 y.p, .bool y.pa, .int .i64 y.ml, .string y.r0, .string y.r1] 56)))
  have hN := TB.new y (x2.alloc (Obj.cells #[.int .i64 x.k, .string x.d, .string x.r, .string x.a, .int .i64 x.q, .int .i64 x.m, .int .i64 x.td, .int .i64 x.sd, .int .i64 x.p, .bool x.pa, .int .i64 x.ml, .string x.r0, .string x.r1] 56)) 56
  rw [hs3] at hN
  have HY : Hid (TB (x2.heap.size + 1) y ((x2.alloc (Obj.cells #[.int .i64 x.k, .string x.d, .string x.r, .string x.a, .int .i64 x.q, .int .i64 x.m, .int .i64 x.td, .int .i64 x.sd, .int .i64 x.p, .bool x.pa, .int .i64 x.ml, .string x.r0, .string x.r1] 56)).alloc (Obj.cells #[.int .i64 y.k, .string y.d, .string y.r, .string y.a, .int .i64 y.q, .int .i64 y.m, .int .i64 y.td, .int .i64 y.sd, .int .i64 y.p, .bool y.pa, .int .i64 y.ml, .string y.r0, .string y.r1] 56))) := hide hN
  have HB := hide (HB.out.keep hb)
  have HR := hide (HR.out.trans (hb.mono HR.out.size))
  clear hb hN hs3
  generalize (x2.alloc (Obj.cells #[.int .i64 x.k, .string x.d, .string x.r, .string x.a, .int .i64 x.q, .int .i64 x.m, .int .i64 x.td, .int .i64 x.sd, .int .i64 x.p, .bool x.pa, .int .i64 x.ml, .string x.r0, .string x.r1] 56)).alloc (Obj.cells #[.int .i64 y.k, .string y.d, .string y.r, .string y.a, .int .i64 y.q, .int .i64 y.m, .int .i64 y.td, .int .i64 y.sd, .int .i64 y.p, .bool y.pa, .int .i64 y.ml, .string y.r0, .string y.r1] 56) = Y1 at *
  generalize x2.heap.size = D at *
  refine ((RL _).out).mono ?_
  rintro e x3 ⟨rfl, hb⟩
  clear c0 c1 c2 c3 c4 c5 c6 c7 c8 c9
  have HX := hide (HX.out.keep hb)
  have HY := hide (HY.out.keep hb)
  have HR := hide (HR.out.trans (hb.mono HR.out.size))
  clear hb HB
  go_wp2_with fail
  have hs3 : (x3.alloc (Obj.cells #[.int .i64 x.k, .string x.d, .string x.r, .string x.a, .int .i64 x.q, .int .i64 x.m, .int .i64 x.td, .int .i64 x.sd, .int .i64 x.p, .bool x.pa, .int .i64 x.ml, .string x.r0, .string x.r1] 59)).heap.size = x3.heap.size + 1 := Array.size_push _
  have hb := two_allocs x3 (Obj.cells #[.int .i64 x.k, .string x.d, .string x.r, .string x.a, .int .i64 x.q, .int .i64 x.m, .int .i64 x.td, .int .i64 x.sd, .int .i64 x.p, .bool x.pa, .int .i64 x.ml, .string x.r0, .string x.r1] 59) (Obj.cells #[.int .i64 y.k, .string y.d, .string y.r, .string y.a, .int .i64 y.q, .int .i64 y.m, .int .i64 y.td, .int .i64 y.sd, .int .i64 y.p, .bool y.pa, .int .i64 y.ml, .string y.r0, .string y.r1] 59)
  have HU := hide ((TB.new x x3 59).keep (one_alloc (x3.alloc (Obj.cells #[.int .i64 x.k, .string x.d, .string x.r, .string x.a, .int .i64 x.q, .int .i64 x.m, .int .i64 x.td, .int .i64 x.sd, .int .i64 x.p, .bool x.pa, .int .i64 x.ml, .string x.r0, .string x.r1] 59)) (Obj.cells #[.int .i64 y.k, .string y.d, .string y.r, .string y.a, .int .i64 y.q, .int .i64 y.m, .int .i64 y.td, .int .i64 y.sd, .int .i64 y.p, .bool y.pa, .int .i64 y.ml, .string y.r0, .string y.r1] 59)))
  have hN := TB.new y (x3.alloc (Obj.cells #[.int .i64 x.k, .string x.d, .string x.r, .string x.a, .int .i64 x.q, .int .i64 x.m, .int .i64 x.td, .int .i64 x.sd, .int .i64 x.p, .bool x.pa, .int .i64 x.ml, .string x.r0, .string x.r1] 59)) 59
  rw [hs3] at hN
  have HV : Hid (TB (x3.heap.size + 1) y ((x3.alloc (Obj.cells #[.int .i64 x.k, .string x.d, .string x.r, .string x.a, .int .i64 x.q, .int .i64 x.m, .int .i64 x.td, .int .i64 x.sd, .int .i64 x.p, .bool x.pa, .int .i64 x.ml, .string x.r0, .string x.r1] 59)).alloc (Obj.cells #[.int .i64 y.k, .string y.d, .string y.r, .string y.a, .int .i64 y.q, .int .i64 y.m, .int .i64 y.td, .int .i64 y.sd, .int .i64 y.p, .bool y.pa, .int .i64 y.ml, .string y.r0, .string y.r1] 59))) := hide hN
  have HX := hide (HX.out.keep hb)
  have HY := hide (HY.out.keep hb)
  have HR := hide (HR.out.trans (hb.mono HR.out.size))
  clear hb hN hs3
  generalize (x3.alloc (Obj.cells #[.int .i64 x.k, .string x.d, .string x.r, .string x.a, .int .i64 x.q, .int .i64 x.m, .int .i64 x.td, .int .i64 x.sd, .int .i64 x.p, .bool x.pa, .int .i64 x.ml, .string x.r0, .string x.r1] 59)).alloc (Obj.cells #[.int .i64 y.k, .string y.d, .string y.r, .string y.a, .int .i64 y.q, .int .i64 y.m, .int .i64 y.td, .int .i64 y.sd, .int .i64 y.p, .bool y.pa, .int .i64 y.ml, .string y.r0, .string y.r1] 59) = Y2 at *
  generalize x3.heap.size = G at *
  have j0 : ∀ z : Sub Y2, z.val.cell? ⟨D, 0, none⟩ = some (.int .i64 x.k) := fun z => (HX.out.keep z.below).c0
  have j1 : ∀ z : Sub Y2, z.val.cell? ⟨D, 1, none⟩ = some (.string x.d) := fun z => (HX.out.keep z.below).c1
  have j2 : ∀ z : Sub Y2, z.val.cell? ⟨D, 2, none⟩ = some (.string x.r) := fun z => (HX.out.keep z.below).c2
  have j3 : ∀ z : Sub Y2, z.val.cell? ⟨D, 3, none⟩ = some (.string x.a) := fun z => (HX.out.keep z.below).c3
  have j4 : ∀ z : Sub Y2, z.val.cell? ⟨D, 4, none⟩ = some (.int .i64 x.q) := fun z => (HX.out.keep z.below).c4
  have j5 : ∀ z : Sub Y2, z.val.cell? ⟨D, 5, none⟩ = some (.int .i64 x.m) := fun z => (HX.out.keep z.below).c5
  have j6 : ∀ z : Sub Y2, z.val.cell? ⟨D, 6, none⟩ = some (.int .i64 x.td) := fun z => (HX.out.keep z.below).c6
  have j7 : ∀ z : Sub Y2, z.val.cell? ⟨D, 7, none⟩ = some (.int .i64 x.sd) := fun z => (HX.out.keep z.below).c7
  have j8 : ∀ z : Sub Y2, z.val.cell? ⟨D, 8, none⟩ = some (.int .i64 x.p) := fun z => (HX.out.keep z.below).c8
  have j9 : ∀ z : Sub Y2, z.val.cell? ⟨D, 9, none⟩ = some (.bool x.pa) := fun z => (HX.out.keep z.below).c9
  have j10 : ∀ z : Sub Y2, z.val.cell? ⟨D, 10, none⟩ = some (.int .i64 x.ml) := fun z => (HX.out.keep z.below).c10
  have j11 : ∀ z : Sub Y2, z.val.cell? ⟨D, 11, none⟩ = some (.string x.r0) := fun z => (HX.out.keep z.below).c11
  have j12 : ∀ z : Sub Y2, z.val.cell? ⟨D, 12, none⟩ = some (.string x.r1) := fun z => (HX.out.keep z.below).c12
  have k0 : ∀ z : Sub Y2, z.val.cell? ⟨D + 1, 0, none⟩ = some (.int .i64 y.k) := fun z => (HY.out.keep z.below).c0
  have k1 : ∀ z : Sub Y2, z.val.cell? ⟨D + 1, 1, none⟩ = some (.string y.d) := fun z => (HY.out.keep z.below).c1
  have k2 : ∀ z : Sub Y2, z.val.cell? ⟨D + 1, 2, none⟩ = some (.string y.r) := fun z => (HY.out.keep z.below).c2
  have k3 : ∀ z : Sub Y2, z.val.cell? ⟨D + 1, 3, none⟩ = some (.string y.a) := fun z => (HY.out.keep z.below).c3
  have k4 : ∀ z : Sub Y2, z.val.cell? ⟨D + 1, 4, none⟩ = some (.int .i64 y.q) := fun z => (HY.out.keep z.below).c4
  have k5 : ∀ z : Sub Y2, z.val.cell? ⟨D + 1, 5, none⟩ = some (.int .i64 y.m) := fun z => (HY.out.keep z.below).c5
  have k6 : ∀ z : Sub Y2, z.val.cell? ⟨D + 1, 6, none⟩ = some (.int .i64 y.td) := fun z => (HY.out.keep z.below).c6
  have k7 : ∀ z : Sub Y2, z.val.cell? ⟨D + 1, 7, none⟩ = some (.int .i64 y.sd) := fun z => (HY.out.keep z.below).c7
  have k8 : ∀ z : Sub Y2, z.val.cell? ⟨D + 1, 8, none⟩ = some (.int .i64 y.p) := fun z => (HY.out.keep z.below).c8
  have k9 : ∀ z : Sub Y2, z.val.cell? ⟨D + 1, 9, none⟩ = some (.bool y.pa) := fun z => (HY.out.keep z.below).c9
  have k10 : ∀ z : Sub Y2, z.val.cell? ⟨D + 1, 10, none⟩ = some (.int .i64 y.ml) := fun z => (HY.out.keep z.below).c10
  have k11 : ∀ z : Sub Y2, z.val.cell? ⟨D + 1, 11, none⟩ = some (.string y.r0) := fun z => (HY.out.keep z.below).c11
  have k12 : ∀ z : Sub Y2, z.val.cell? ⟨D + 1, 12, none⟩ = some (.string y.r1) := fun z => (HY.out.keep z.below).c12
  have l0 : ∀ z : Sub Y2, z.val.cell? ⟨G, 0, none⟩ = some (.int .i64 x.k) := fun z => (HU.out.keep z.below).c0
  have l1 : ∀ z : Sub Y2, z.val.cell? ⟨G, 1, none⟩ = some (.string x.d) := fun z => (HU.out.keep z.below).c1
  have l2 : ∀ z : Sub Y2, z.val.cell? ⟨G, 2, none⟩ = some (.string x.r) := fun z => (HU.out.keep z.below).c2
  have l3 : ∀ z : Sub Y2, z.val.cell? ⟨G, 3, none⟩ = some (.string x.a) := fun z => (HU.out.keep z.below).c3
  have l4 : ∀ z : Sub Y2, z.val.cell? ⟨G, 4, none⟩ = some (.int .i64 x.q) := fun z => (HU.out.keep z.below).c4
  have l5 : ∀ z : Sub Y2, z.val.cell? ⟨G, 5, none⟩ = some (.int .i64 x.m) := fun z => (HU.out.keep z.below).c5
  have l6 : ∀ z : Sub Y2, z.val.cell? ⟨G, 6, none⟩ = some (.int .i64 x.td) := fun z => (HU.out.keep z.below).c6
  have l7 : ∀ z : Sub Y2, z.val.cell? ⟨G, 7, none⟩ = some (.int .i64 x.sd) := fun z => (HU.out.keep z.below).c7
  have l8 : ∀ z : Sub Y2, z.val.cell? ⟨G, 8, none⟩ = some (.int .i64 x.p) := fun z => (HU.out.keep z.below).c8
  have l9 : ∀ z : Sub Y2, z.val.cell? ⟨G, 9, none⟩ = some (.bool x.pa) := fun z => (HU.out.keep z.below).c9
  have l10 : ∀ z : Sub Y2, z.val.cell? ⟨G, 10, none⟩ = some (.int .i64 x.ml) := fun z => (HU.out.keep z.below).c10
  have l11 : ∀ z : Sub Y2, z.val.cell? ⟨G, 11, none⟩ = some (.string x.r0) := fun z => (HU.out.keep z.below).c11
  have l12 : ∀ z : Sub Y2, z.val.cell? ⟨G, 12, none⟩ = some (.string x.r1) := fun z => (HU.out.keep z.below).c12
  have m0 : ∀ z : Sub Y2, z.val.cell? ⟨G + 1, 0, none⟩ = some (.int .i64 y.k) := fun z => (HV.out.keep z.below).c0
  have m1 : ∀ z : Sub Y2, z.val.cell? ⟨G + 1, 1, none⟩ = some (.string y.d) := fun z => (HV.out.keep z.below).c1
  have m2 : ∀ z : Sub Y2, z.val.cell? ⟨G + 1, 2, none⟩ = some (.string y.r) := fun z => (HV.out.keep z.below).c2
  have m3 : ∀ z : Sub Y2, z.val.cell? ⟨G + 1, 3, none⟩ = some (.string y.a) := fun z => (HV.out.keep z.below).c3
  have m4 : ∀ z : Sub Y2, z.val.cell? ⟨G + 1, 4, none⟩ = some (.int .i64 y.q) := fun z => (HV.out.keep z.below).c4
  have m5 : ∀ z : Sub Y2, z.val.cell? ⟨G + 1, 5, none⟩ = some (.int .i64 y.m) := fun z => (HV.out.keep z.below).c5
  have m6 : ∀ z : Sub Y2, z.val.cell? ⟨G + 1, 6, none⟩ = some (.int .i64 y.td) := fun z => (HV.out.keep z.below).c6
  have m7 : ∀ z : Sub Y2, z.val.cell? ⟨G + 1, 7, none⟩ = some (.int .i64 y.sd) := fun z => (HV.out.keep z.below).c7
  have m8 : ∀ z : Sub Y2, z.val.cell? ⟨G + 1, 8, none⟩ = some (.int .i64 y.p) := fun z => (HV.out.keep z.below).c8
  have m9 : ∀ z : Sub Y2, z.val.cell? ⟨G + 1, 9, none⟩ = some (.bool y.pa) := fun z => (HV.out.keep z.below).c9
  have m10 : ∀ z : Sub Y2, z.val.cell? ⟨G + 1, 10, none⟩ = some (.int .i64 y.ml) := fun z => (HV.out.keep z.below).c10
  have m11 : ∀ z : Sub Y2, z.val.cell? ⟨G + 1, 11, none⟩ = some (.string y.r0) := fun z => (HV.out.keep z.below).c11
  have m12 : ∀ z : Sub Y2, z.val.cell? ⟨G + 1, 12, none⟩ = some (.string y.r1) := fun z => (HV.out.keep z.below).c12
  have nx := ne59 x
  have ny := ne59 y
  refine wp_region_sub (w0 := Y2) (by kernel_rfl) (by kernel_rfl) (Below.refl _ _).drew ?_
  repeat (first | go_big_quiet_step ((go_at_call 26; exact sub_of _ (lto_any _ _))) | quiet_step ((go_at_call 26; exact sub_of _ (lto_any _ _))))
  refine wpQuiet_nil ?_
  rintro _ ⟨z, rfl⟩
  clear nx ny j0 j1 j2 j3 j4 j5 j6 j7 j8 j9 j10 j11 j12 k0 k1 k2 k3 k4 k5 k6 k7 k8 k9 k10 k11 k12 l0 l1 l2 l3 l4 l5 l6 l7 l8 l9 l10 l11 l12 m0 m1 m2 m3 m4 m5 m6 m7 m8 m9 m10 m11 m12
  have hb := z.below
  have HX := hide (HX.out.keep hb)
  have HY := hide (HY.out.keep hb)
  have HR := hide (HR.out.trans (hb.mono HR.out.size))
  clear hb HU HV
  generalize z.val = y3 at *
  clear z
  go_wp2_with fail
  refine ((KN _ (S.out.keep HR.out)).out).mono ?_
  rintro e y4 ⟨rfl, hb⟩
  have HX := hide (HX.out.keep hb)
  have HY := hide (HY.out.keep hb)
  have HR := hide (HR.out.trans (hb.mono HR.out.size))
  clear hb
  by_cases hE : E = 0
  · subst hE
    have QA1 := QA rfl
    have QB1 := QB rfl
    obtain ⟨_, e0, e1, e2, e3, e4, e5, e6, e7, e8, e9, e10, e11, e12⟩ := HX.out
    go_wp2_with fail
    refine ((QA1 _ (S.out.keep HR.out)).out).mono ?_
    rintro e y5 ⟨rfl, hb⟩
    have HY := hide (HY.out.keep hb)
    have HR := hide (HR.out.trans (hb.mono HR.out.size))
    clear hb e0 e1 e2 e3 e4 e5 e6 e7 e8 e9 e10 e11 e12
    obtain ⟨_, e0, e1, e2, e3, e4, e5, e6, e7, e8, e9, e10, e11, e12⟩ := HY.out
    go_wp2_with fail
    refine ((QB1 _ (S.out.keep HR.out)).out).mono ?_
    rintro e y6 ⟨rfl, hb⟩
    have HR := hide (HR.out.trans (hb.mono HR.out.size))
    clear hb
    go_wp2_with fail
    go_ret
    exact ⟨rfl, HR.out⟩
  · have hE' : (E != 0) = true := by simpa using hE
    go_wp2_with fail
    go_ret
    exact ⟨rfl, HR.out⟩

end Go.Proofs.YtjjaemobgfconaaDoor
