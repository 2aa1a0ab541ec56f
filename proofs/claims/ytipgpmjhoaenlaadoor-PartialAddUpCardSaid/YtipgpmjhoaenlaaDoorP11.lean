/-
  The example of the chapter (the statements' 'known') at this translation, in every world; a trade is the same as itself.
-/
import Derived.Test.YtipgpmjhoaenlaaDoorP9
import Derived.Test.YtipgpmjhoaenlaaDoorP10
import Derived.Test.YtipgpmjhoaenlaaDoorEq
namespace Go.Proofs.YtipgpmjhoaenlaaDoor
open Go.RowKit
set_option linter.unusedVariables false
set_option linter.unusedSimpArgs false
set_option linter.unnecessarySimpa false

def kT : Tr := (⟨1, ⟨#[66, 65, 78, 75, 65]⟩, ⟨#[66, 65, 78, 75, 66]⟩, ⟨#[85, 83, 48, 51, 55, 56, 51, 51, 49, 48, 48, 53]⟩, 100, 999, 9, 10, 0, true, 10, ⟨#[68, 49]⟩, ⟨#[82, 49]⟩⟩ : Tr)
theorem kOk : kT.Ok := ⟨by decide, by decide, by decide, by decide, by decide, by decide, by decide, by decide, by decide, by decide, by decide, by decide⟩
theorem kE : tE kT = 0 := by kernel_rfl
theorem kA : alB kT = true := by kernel_rfl
theorem kCV : cV kT 30 = 299 := by kernel_rfl
theorem kCE : cE kT 30 = 0 := by kernel_rfl
theorem kLV : lgV kT 47 350 = 30 := by kernel_rfl
theorem kLE : lgE kT = 0 := by kernel_rfl
theorem kSE : spE kT 30 = 0 := by kernel_rfl
theorem kSA : spA kT 30 = (⟨1, ⟨#[66, 65, 78, 75, 65]⟩, ⟨#[66, 65, 78, 75, 66]⟩, ⟨#[85, 83, 48, 51, 55, 56, 51, 51, 49, 48, 48, 53]⟩, 30, 299, 9, 10, 0, false, 0, ⟨#[68, 49]⟩, ⟨#[82, 49]⟩⟩ : Tr) := by kernel_rfl
theorem kSB : spB kT 30 = (⟨1, ⟨#[66, 65, 78, 75, 65]⟩, ⟨#[66, 65, 78, 75, 66]⟩, ⟨#[85, 83, 48, 51, 55, 56, 51, 51, 49, 48, 48, 53]⟩, 70, 700, 9, 10, 0, true, 10, ⟨#[68, 49]⟩, ⟨#[82, 49]⟩⟩ : Tr) := by kernel_rfl
theorem k_cash (w : World) (S : Shp w) : Calls Tryd.prog 10 #[.agg #[.int .i64 1, .string ⟨#[66, 65, 78, 75, 65]⟩, .string ⟨#[66, 65, 78, 75, 66]⟩, .string ⟨#[85, 83, 48, 51, 55, 56, 51, 51, 49, 48, 48, 53]⟩, .int .i64 100, .int .i64 999, .int .i64 9, .int .i64 10, .int .i64 0, .bool true, .int .i64 10, .string ⟨#[68, 49]⟩, .string ⟨#[82, 49]⟩], .int .i64 30] w fun e w' => e = .returned (.tuple #[.int .i64 299, .int .i64 0]) ∧ Below w.heap.size w w' := by
  have h := cash_any kT 30 w S kOk
  rw [kCV, kCE] at h
  exact h
theorem k_large (w : World) (S : Shp w) : Calls Tryd.prog 22 #[.agg #[.int .i64 1, .string ⟨#[66, 65, 78, 75, 65]⟩, .string ⟨#[66, 65, 78, 75, 66]⟩, .string ⟨#[85, 83, 48, 51, 55, 56, 51, 51, 49, 48, 48, 53]⟩, .int .i64 100, .int .i64 999, .int .i64 9, .int .i64 10, .int .i64 0, .bool true, .int .i64 10, .string ⟨#[68, 49]⟩, .string ⟨#[82, 49]⟩], .int .i64 47, .int .i64 350] w fun e w' => e = .returned (.tuple #[.int .i64 30, .int .i64 0]) ∧ Below w.heap.size w w' := by
  have h := largest_any kT 47 350 w S kOk (by decide)
  rw [kLV, kLE] at h
  exact h
theorem k_split (w : World) (S : Shp w) : Calls Tryd.prog 15 #[.agg #[.int .i64 1, .string ⟨#[66, 65, 78, 75, 65]⟩, .string ⟨#[66, 65, 78, 75, 66]⟩, .string ⟨#[85, 83, 48, 51, 55, 56, 51, 51, 49, 48, 48, 53]⟩, .int .i64 100, .int .i64 999, .int .i64 9, .int .i64 10, .int .i64 0, .bool true, .int .i64 10, .string ⟨#[68, 49]⟩, .string ⟨#[82, 49]⟩], .int .i64 30] w fun e w' => e = .returned (.tuple #[.agg #[.int .i64 1, .string ⟨#[66, 65, 78, 75, 65]⟩, .string ⟨#[66, 65, 78, 75, 66]⟩, .string ⟨#[85, 83, 48, 51, 55, 56, 51, 51, 49, 48, 48, 53]⟩, .int .i64 30, .int .i64 299, .int .i64 9, .int .i64 10, .int .i64 0, .bool false, .int .i64 0, .string ⟨#[68, 49]⟩, .string ⟨#[82, 49]⟩], .agg #[.int .i64 1, .string ⟨#[66, 65, 78, 75, 65]⟩, .string ⟨#[66, 65, 78, 75, 66]⟩, .string ⟨#[85, 83, 48, 51, 55, 56, 51, 51, 49, 48, 48, 53]⟩, .int .i64 70, .int .i64 700, .int .i64 9, .int .i64 10, .int .i64 0, .bool true, .int .i64 10, .string ⟨#[68, 49]⟩, .string ⟨#[82, 49]⟩], .int .i64 0]) ∧ Below w.heap.size w w' := by
  have h := split_any kT 30 w S kOk
  rw [kSA, kSB, kSE] at h
  exact h
theorem k_al (w : World) (S : Shp w) : Calls Tryd.prog 13 #[.agg #[.int .i64 1, .string ⟨#[66, 65, 78, 75, 65]⟩, .string ⟨#[66, 65, 78, 75, 66]⟩, .string ⟨#[85, 83, 48, 51, 55, 56, 51, 51, 49, 48, 48, 53]⟩, .int .i64 100, .int .i64 999, .int .i64 9, .int .i64 10, .int .i64 0, .bool true, .int .i64 10, .string ⟨#[68, 49]⟩, .string ⟨#[82, 49]⟩]] w fun e w' => e = .returned (.bool true) ∧ Below w.heap.size w w' := by
  have h := al_any kT w S kOk
  rw [kA] at h
  exact h
set_option maxHeartbeats 8000000 in
set_option maxRecDepth 20000 in
theorem known_any (w : World) (S : Shp w) : Calls Tryd.prog 12 #[] w fun e w' => e = .returned (.bool true) ∧ Below w.heap.size w w' := by
  have S := hide S
  have HR := hide (one_alloc w (Obj.cells #[.int .i64 1, .string ⟨#[66, 65, 78, 75, 65]⟩, .string ⟨#[66, 65, 78, 75, 66]⟩, .string ⟨#[85, 83, 48, 51, 55, 56, 51, 51, 49, 48, 48, 53]⟩, .int .i64 100, .int .i64 999, .int .i64 9, .int .i64 10, .int .i64 0, .bool true, .int .i64 10, .string ⟨#[68, 49]⟩, .string ⟨#[82, 49]⟩] 25))
  have HB := hide (TB.new kT w 25)
  have C1 := fun w S => hide (k_cash w S)
  have C2 := fun w S => hide (k_large w S)
  have C3 := fun w S => hide (k_split w S)
  have C4 := fun w S => hide (k_al w S)
  go_enter Tryd.func12, Tryd.ntmps12
  have HB : Hid (TB w.heap.size kT (w.alloc (Obj.cells #[.int .i64 1, .string ⟨#[66, 65, 78, 75, 65]⟩, .string ⟨#[66, 65, 78, 75, 66]⟩, .string ⟨#[85, 83, 48, 51, 55, 56, 51, 51, 49, 48, 48, 53]⟩, .int .i64 100, .int .i64 999, .int .i64 9, .int .i64 10, .int .i64 0, .bool true, .int .i64 10, .string ⟨#[68, 49]⟩, .string ⟨#[82, 49]⟩] 25))) := HB
  obtain ⟨_, c0, c1, c2, c3, c4, c5, c6, c7, c8, c9, c10, c11, c12⟩ := HB.out
  dsimp only [kT] at c0 c1 c2 c3 c4 c5 c6 c7 c8 c9 c10 c11 c12
  go_wp2_with fail
  refine ((C1 _ (S.out.keep HR.out)).out).mono ?_
  rintro e x1 ⟨rfl, hb⟩
  clear c0 c1 c2 c3 c4 c5 c6 c7 c8 c9 c10 c11 c12
  have HB := hide (HB.out.keep hb)
  have HR := hide (HR.out.trans (hb.mono HR.out.size))
  clear hb
  obtain ⟨_, c0, c1, c2, c3, c4, c5, c6, c7, c8, c9, c10, c11, c12⟩ := HB.out
  dsimp only [kT] at c0 c1 c2 c3 c4 c5 c6 c7 c8 c9 c10 c11 c12
  go_wp2_with fail
  refine ((C2 _ (S.out.keep HR.out)).out).mono ?_
  rintro e x2 ⟨rfl, hb⟩
  clear c0 c1 c2 c3 c4 c5 c6 c7 c8 c9 c10 c11 c12
  have HB := hide (HB.out.keep hb)
  have HR := hide (HR.out.trans (hb.mono HR.out.size))
  clear hb
  obtain ⟨_, c0, c1, c2, c3, c4, c5, c6, c7, c8, c9, c10, c11, c12⟩ := HB.out
  dsimp only [kT] at c0 c1 c2 c3 c4 c5 c6 c7 c8 c9 c10 c11 c12
  go_wp2_with fail
  refine ((C3 _ (S.out.keep HR.out)).out).mono ?_
  rintro e x3 ⟨rfl, hb⟩
  clear c0 c1 c2 c3 c4 c5 c6 c7 c8 c9 c10 c11 c12
  have HB := hide (HB.out.keep hb)
  have HR := hide (HR.out.trans (hb.mono HR.out.size))
  clear hb
  have lb := HB.out.lt
  have HB := hide ((HB.out.keep (one_alloc x3 (Obj.cells #[.int .i64 1, .string ⟨#[66, 65, 78, 75, 65]⟩, .string ⟨#[66, 65, 78, 75, 66]⟩, .string ⟨#[85, 83, 48, 51, 55, 56, 51, 51, 49, 48, 48, 53]⟩, .int .i64 30, .int .i64 299, .int .i64 9, .int .i64 10, .int .i64 0, .bool false, .int .i64 0, .string ⟨#[68, 49]⟩, .string ⟨#[82, 49]⟩] 25))).keep (one_alloc _ (Obj.cells #[.int .i64 1, .string ⟨#[66, 65, 78, 75, 65]⟩, .string ⟨#[66, 65, 78, 75, 66]⟩, .string ⟨#[85, 83, 48, 51, 55, 56, 51, 51, 49, 48, 48, 53]⟩, .int .i64 70, .int .i64 700, .int .i64 9, .int .i64 10, .int .i64 0, .bool true, .int .i64 10, .string ⟨#[68, 49]⟩, .string ⟨#[82, 49]⟩] 25)))
  have HR := hide (HR.out.trans ((two_allocs x3 (Obj.cells #[.int .i64 1, .string ⟨#[66, 65, 78, 75, 65]⟩, .string ⟨#[66, 65, 78, 75, 66]⟩, .string ⟨#[85, 83, 48, 51, 55, 56, 51, 51, 49, 48, 48, 53]⟩, .int .i64 30, .int .i64 299, .int .i64 9, .int .i64 10, .int .i64 0, .bool false, .int .i64 0, .string ⟨#[68, 49]⟩, .string ⟨#[82, 49]⟩] 25) (Obj.cells #[.int .i64 1, .string ⟨#[66, 65, 78, 75, 65]⟩, .string ⟨#[66, 65, 78, 75, 66]⟩, .string ⟨#[85, 83, 48, 51, 55, 56, 51, 51, 49, 48, 48, 53]⟩, .int .i64 70, .int .i64 700, .int .i64 9, .int .i64 10, .int .i64 0, .bool true, .int .i64 10, .string ⟨#[68, 49]⟩, .string ⟨#[82, 49]⟩] 25)).mono HR.out.size))
  obtain ⟨_, c0, c1, c2, c3, c4, c5, c6, c7, c8, c9, c10, c11, c12⟩ := HB.out
  dsimp only [kT] at c0 c1 c2 c3 c4 c5 c6 c7 c8 c9 c10 c11 c12
  go_wp2_with fail
  refine ((C4 _ (S.out.keep HR.out)).out).mono ?_
  rintro e x4 ⟨rfl, hb⟩
  clear c0 c1 c2 c3 c4 c5 c6 c7 c8 c9 c10 c11 c12
  have HR := hide (HR.out.trans (hb.mono HR.out.size))
  clear hb
  go_wp2_with fail
  go_ret
  exact ⟨rfl, HR.out⟩
set_option maxHeartbeats 8000000 in
set_option maxRecDepth 20000 in
theorem same_refl (t : Tr) (w : World) : Calls Tryd.prog 17 #[.agg #[.int .i64 t.k, .string t.d, .string t.r, .string t.a, .int .i64 t.q, .int .i64 t.m, .int .i64 t.td, .int .i64 t.sd, .int .i64 t.p, .bool t.pa, .int .i64 t.ml, .string t.r0, .string t.r1], .agg #[.int .i64 t.k, .string t.d, .string t.r, .string t.a, .int .i64 t.q, .int .i64 t.m, .int .i64 t.td, .int .i64 t.sd, .int .i64 t.p, .bool t.pa, .int .i64 t.ml, .string t.r0, .string t.r1]] w fun e w' => e = .returned (.bool true) ∧ Below w.heap.size w w' := by
  have TO := fun w => hide (lto_any t w)
  have EQ := fun w => hide (eq24 t w)
  have HR := hide (two_allocs w (Obj.cells #[.int .i64 t.k, .string t.d, .string t.r, .string t.a, .int .i64 t.q, .int .i64 t.m, .int .i64 t.td, .int .i64 t.sd, .int .i64 t.p, .bool t.pa, .int .i64 t.ml, .string t.r0, .string t.r1] 25) (Obj.cells #[.int .i64 t.k, .string t.d, .string t.r, .string t.a, .int .i64 t.q, .int .i64 t.m, .int .i64 t.td, .int .i64 t.sd, .int .i64 t.p, .bool t.pa, .int .i64 t.ml, .string t.r0, .string t.r1] 24))
  have HB := hide ((TB.new t w 25).keep (one_alloc _ (Obj.cells #[.int .i64 t.k, .string t.d, .string t.r, .string t.a, .int .i64 t.q, .int .i64 t.m, .int .i64 t.td, .int .i64 t.sd, .int .i64 t.p, .bool t.pa, .int .i64 t.ml, .string t.r0, .string t.r1] 24)))
  have s9 : (w.alloc (Obj.cells #[.int .i64 t.k, .string t.d, .string t.r, .string t.a, .int .i64 t.q, .int .i64 t.m, .int .i64 t.td, .int .i64 t.sd, .int .i64 t.p, .bool t.pa, .int .i64 t.ml, .string t.r0, .string t.r1] 25)).heap.size = w.heap.size + 1 := by simp
  have HD := hide (TB.new t (w.alloc (Obj.cells #[.int .i64 t.k, .string t.d, .string t.r, .string t.a, .int .i64 t.q, .int .i64 t.m, .int .i64 t.td, .int .i64 t.sd, .int .i64 t.p, .bool t.pa, .int .i64 t.ml, .string t.r0, .string t.r1] 25)) 24)
  rw [s9] at HD
  clear s9
  go_enter Tryd.func17, Tryd.ntmps17
  go_wp2_with fail
  generalize ((w.alloc (Obj.cells #[.int .i64 t.k, .string t.d, .string t.r, .string t.a, .int .i64 t.q, .int .i64 t.m, .int .i64 t.td, .int .i64 t.sd, .int .i64 t.p, .bool t.pa, .int .i64 t.ml, .string t.r0, .string t.r1] 25)).alloc (Obj.cells #[.int .i64 t.k, .string t.d, .string t.r, .string t.a, .int .i64 t.q, .int .i64 t.m, .int .i64 t.td, .int .i64 t.sd, .int .i64 t.p, .bool t.pa, .int .i64 t.ml, .string t.r0, .string t.r1] 24)) = X at *
  have k0 : ∀ z : Sub X, z.val.cell? ⟨w.heap.size, 0, none⟩ = some (.int .i64 t.k) := fun z => (HB.out.keep z.below).c0
  have k1 : ∀ z : Sub X, z.val.cell? ⟨w.heap.size, 1, none⟩ = some (.string t.d) := fun z => (HB.out.keep z.below).c1
  have k2 : ∀ z : Sub X, z.val.cell? ⟨w.heap.size, 2, none⟩ = some (.string t.r) := fun z => (HB.out.keep z.below).c2
  have k3 : ∀ z : Sub X, z.val.cell? ⟨w.heap.size, 3, none⟩ = some (.string t.a) := fun z => (HB.out.keep z.below).c3
  have k4 : ∀ z : Sub X, z.val.cell? ⟨w.heap.size, 4, none⟩ = some (.int .i64 t.q) := fun z => (HB.out.keep z.below).c4
  have k5 : ∀ z : Sub X, z.val.cell? ⟨w.heap.size, 5, none⟩ = some (.int .i64 t.m) := fun z => (HB.out.keep z.below).c5
  have k6 : ∀ z : Sub X, z.val.cell? ⟨w.heap.size, 6, none⟩ = some (.int .i64 t.td) := fun z => (HB.out.keep z.below).c6
  have k7 : ∀ z : Sub X, z.val.cell? ⟨w.heap.size, 7, none⟩ = some (.int .i64 t.sd) := fun z => (HB.out.keep z.below).c7
  have k8 : ∀ z : Sub X, z.val.cell? ⟨w.heap.size, 8, none⟩ = some (.int .i64 t.p) := fun z => (HB.out.keep z.below).c8
  have k9 : ∀ z : Sub X, z.val.cell? ⟨w.heap.size, 9, none⟩ = some (.bool t.pa) := fun z => (HB.out.keep z.below).c9
  have k10 : ∀ z : Sub X, z.val.cell? ⟨w.heap.size, 10, none⟩ = some (.int .i64 t.ml) := fun z => (HB.out.keep z.below).c10
  have k11 : ∀ z : Sub X, z.val.cell? ⟨w.heap.size, 11, none⟩ = some (.string t.r0) := fun z => (HB.out.keep z.below).c11
  have k12 : ∀ z : Sub X, z.val.cell? ⟨w.heap.size, 12, none⟩ = some (.string t.r1) := fun z => (HB.out.keep z.below).c12
  have m0 : ∀ z : Sub X, z.val.cell? ⟨w.heap.size + 1, 0, none⟩ = some (.int .i64 t.k) := fun z => (HD.out.keep z.below).c0
  have m1 : ∀ z : Sub X, z.val.cell? ⟨w.heap.size + 1, 1, none⟩ = some (.string t.d) := fun z => (HD.out.keep z.below).c1
  have m2 : ∀ z : Sub X, z.val.cell? ⟨w.heap.size + 1, 2, none⟩ = some (.string t.r) := fun z => (HD.out.keep z.below).c2
  have m3 : ∀ z : Sub X, z.val.cell? ⟨w.heap.size + 1, 3, none⟩ = some (.string t.a) := fun z => (HD.out.keep z.below).c3
  have m4 : ∀ z : Sub X, z.val.cell? ⟨w.heap.size + 1, 4, none⟩ = some (.int .i64 t.q) := fun z => (HD.out.keep z.below).c4
  have m5 : ∀ z : Sub X, z.val.cell? ⟨w.heap.size + 1, 5, none⟩ = some (.int .i64 t.m) := fun z => (HD.out.keep z.below).c5
  have m6 : ∀ z : Sub X, z.val.cell? ⟨w.heap.size + 1, 6, none⟩ = some (.int .i64 t.td) := fun z => (HD.out.keep z.below).c6
  have m7 : ∀ z : Sub X, z.val.cell? ⟨w.heap.size + 1, 7, none⟩ = some (.int .i64 t.sd) := fun z => (HD.out.keep z.below).c7
  have m8 : ∀ z : Sub X, z.val.cell? ⟨w.heap.size + 1, 8, none⟩ = some (.int .i64 t.p) := fun z => (HD.out.keep z.below).c8
  have m9 : ∀ z : Sub X, z.val.cell? ⟨w.heap.size + 1, 9, none⟩ = some (.bool t.pa) := fun z => (HD.out.keep z.below).c9
  have m10 : ∀ z : Sub X, z.val.cell? ⟨w.heap.size + 1, 10, none⟩ = some (.int .i64 t.ml) := fun z => (HD.out.keep z.below).c10
  have m11 : ∀ z : Sub X, z.val.cell? ⟨w.heap.size + 1, 11, none⟩ = some (.string t.r0) := fun z => (HD.out.keep z.below).c11
  have m12 : ∀ z : Sub X, z.val.cell? ⟨w.heap.size + 1, 12, none⟩ = some (.string t.r1) := fun z => (HD.out.keep z.below).c12
  have EQ := fun w => (EQ w).out
  refine wp_region_sub (w0 := X) (by kernel_rfl) (by kernel_rfl) (Below.refl _ _).drew ?_
  repeat (first | go_big_quiet_step ((go_at_call 29; exact sub_of _ (TO _).out)) | quiet_step ((go_at_call 29; exact sub_of _ (TO _).out)))
  refine wpQuiet_nil ?_
  rintro _ ⟨y, rfl⟩
  go_wp2_with fail
  go_ret
  exact ⟨rfl, HR.out.trans (y.below.mono HR.out.size)⟩
end Go.Proofs.YtipgpmjhoaenlaaDoor
