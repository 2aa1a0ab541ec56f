/-
  Contracts of both splits of a trade at this translation.
-/
import Derived.Test.YtipgpmjhoaenlaaDoorP8a
import Derived.Test.YtipgpmjhoaenlaaDoorP8b
import Derived.Test.YtipgpmjhoaenlaaDoorP8c
import Derived.Test.YtipgpmjhoaenlaaDoorP8d
namespace Go.Proofs.YtipgpmjhoaenlaaDoor
open Go.RowKit
set_option linter.unusedVariables false
set_option linter.unusedSimpArgs false

theorem spE_zero {t : Tr} {n : Int} (h : spE t n = 0) : tE t = 0 ∧ alB t = true ∧ ptB t n = true := by
  unfold spE at h
  split at h
  · rename_i h1; exact absurd h h1
  · rename_i h1
    split at h
    · cases h
    · rename_i h2
      split at h
      · cases h
      · rename_i h3
        exact ⟨Classical.byContradiction h1, by simpa using h2, by simpa using h3⟩
set_option maxHeartbeats 8000000 in
set_option maxRecDepth 20000 in
theorem split_bad (t : Tr) (n : Int) (w : World) (S : Shp w) (h : t.Ok) (hb : spE t n ≠ 0) : Calls Tryd.prog 15 #[.agg #[.int .i64 t.k, .string t.d, .string t.r, .string t.a, .int .i64 t.q, .int .i64 t.m, .int .i64 t.td, .int .i64 t.sd, .int .i64 t.p, .bool t.pa, .int .i64 t.ml, .string t.r0, .string t.r1], .int .i64 n] w fun e w' => e = .returned (.tuple #[.agg #[.int .i64 zT.k, .string zT.d, .string zT.r, .string zT.a, .int .i64 zT.q, .int .i64 zT.m, .int .i64 zT.td, .int .i64 zT.sd, .int .i64 zT.p, .bool zT.pa, .int .i64 zT.ml, .string zT.r0, .string zT.r1], .agg #[.int .i64 zT.k, .string zT.d, .string zT.r, .string zT.a, .int .i64 zT.q, .int .i64 zT.m, .int .i64 zT.td, .int .i64 zT.sd, .int .i64 zT.p, .bool zT.pa, .int .i64 zT.ml, .string zT.r0, .string zT.r1], .int .i64 (spE t n)]) ∧ Below w.heap.size w w' := by
  have S := hide S
  have CK := fun w S => hide (tcheck_any t w S h)
  have AL := fun w S => hide (al_any t w S h)
  have PT := fun w S hA => hide (part_any t n w S h hA)
  have HH := hide hb
  clear h hb
  have HW : Hid (WS w t (((w.alloc (Obj.cells #[.int .i64 t.k, .string t.d, .string t.r, .string t.a, .int .i64 t.q, .int .i64 t.m, .int .i64 t.td, .int .i64 t.sd, .int .i64 t.p, .bool t.pa, .int .i64 t.ml, .string t.r0, .string t.r1] 25)).alloc (Obj.cells #[.int .i64 zT.k, .string zT.d, .string zT.r, .string zT.a, .int .i64 zT.q, .int .i64 zT.m, .int .i64 zT.td, .int .i64 zT.sd, .int .i64 zT.p, .bool zT.pa, .int .i64 zT.ml, .string zT.r0, .string zT.r1] 25)).alloc (Obj.cells #[.int .i64 zT.k, .string zT.d, .string zT.r, .string zT.a, .int .i64 zT.q, .int .i64 zT.m, .int .i64 zT.td, .int .i64 zT.sd, .int .i64 zT.p, .bool zT.pa, .int .i64 zT.ml, .string zT.r0, .string zT.r1] 25))) := by
    have s4 : (w.alloc (Obj.cells #[.int .i64 t.k, .string t.d, .string t.r, .string t.a, .int .i64 t.q, .int .i64 t.m, .int .i64 t.td, .int .i64 t.sd, .int .i64 t.p, .bool t.pa, .int .i64 t.ml, .string t.r0, .string t.r1] 25)).heap.size = w.heap.size + 1 := by simp
    have s5 : ((w.alloc (Obj.cells #[.int .i64 t.k, .string t.d, .string t.r, .string t.a, .int .i64 t.q, .int .i64 t.m, .int .i64 t.td, .int .i64 t.sd, .int .i64 t.p, .bool t.pa, .int .i64 t.ml, .string t.r0, .string t.r1] 25)).alloc (Obj.cells #[.int .i64 zT.k, .string zT.d, .string zT.r, .string zT.a, .int .i64 zT.q, .int .i64 zT.m, .int .i64 zT.td, .int .i64 zT.sd, .int .i64 zT.p, .bool zT.pa, .int .i64 zT.ml, .string zT.r0, .string zT.r1] 25)).heap.size = w.heap.size + 1 + 1 := by simp
    have H4 := ((RB.new zT (w.alloc (Obj.cells #[.int .i64 t.k, .string t.d, .string t.r, .string t.a, .int .i64 t.q, .int .i64 t.m, .int .i64 t.td, .int .i64 t.sd, .int .i64 t.p, .bool t.pa, .int .i64 t.ml, .string t.r0, .string t.r1] 25)) 25).keep (one_alloc _ (Obj.cells #[.int .i64 zT.k, .string zT.d, .string zT.r, .string zT.a, .int .i64 zT.q, .int .i64 zT.m, .int .i64 zT.td, .int .i64 zT.sd, .int .i64 zT.p, .bool zT.pa, .int .i64 zT.ml, .string zT.r0, .string zT.r1] 25)))
    have H5 := (RB.new zT ((w.alloc (Obj.cells #[.int .i64 t.k, .string t.d, .string t.r, .string t.a, .int .i64 t.q, .int .i64 t.m, .int .i64 t.td, .int .i64 t.sd, .int .i64 t.p, .bool t.pa, .int .i64 t.ml, .string t.r0, .string t.r1] 25)).alloc (Obj.cells #[.int .i64 zT.k, .string zT.d, .string zT.r, .string zT.a, .int .i64 zT.q, .int .i64 zT.m, .int .i64 zT.td, .int .i64 zT.sd, .int .i64 zT.p, .bool zT.pa, .int .i64 zT.ml, .string zT.r0, .string zT.r1] 25)) 25)
    rw [s4] at H4
    rw [s5] at H5
    exact ⟨((one_alloc w (Obj.cells #[.int .i64 t.k, .string t.d, .string t.r, .string t.a, .int .i64 t.q, .int .i64 t.m, .int .i64 t.td, .int .i64 t.sd, .int .i64 t.p, .bool t.pa, .int .i64 t.ml, .string t.r0, .string t.r1] 25)).alloc (by simp) (Obj.cells #[.int .i64 zT.k, .string zT.d, .string zT.r, .string zT.a, .int .i64 zT.q, .int .i64 zT.m, .int .i64 zT.td, .int .i64 zT.sd, .int .i64 zT.p, .bool zT.pa, .int .i64 zT.ml, .string zT.r0, .string zT.r1] 25)).alloc (by simp; omega) (Obj.cells #[.int .i64 zT.k, .string zT.d, .string zT.r, .string zT.a, .int .i64 zT.q, .int .i64 zT.m, .int .i64 zT.td, .int .i64 zT.sd, .int .i64 zT.p, .bool zT.pa, .int .i64 zT.ml, .string zT.r0, .string zT.r1] 25), ((TB.new t w 25).keep (one_alloc _ (Obj.cells #[.int .i64 zT.k, .string zT.d, .string zT.r, .string zT.a, .int .i64 zT.q, .int .i64 zT.m, .int .i64 zT.td, .int .i64 zT.sd, .int .i64 zT.p, .bool zT.pa, .int .i64 zT.ml, .string zT.r0, .string zT.r1] 25))).keep (one_alloc _ (Obj.cells #[.int .i64 zT.k, .string zT.d, .string zT.r, .string zT.a, .int .i64 zT.q, .int .i64 zT.m, .int .i64 zT.td, .int .i64 zT.sd, .int .i64 zT.p, .bool zT.pa, .int .i64 zT.ml, .string zT.r0, .string zT.r1] 25)), H4, H5⟩
  by_cases hE : tE t = 0
  · have HE := hide hE
    rw [hE] at CK
    cases hA : alB t
    · have e : spE t n = 10 := by unfold spE; rw [if_neg (fun h => h hE), if_pos hA]
      rw [e]
      rw [hA] at AL
      clear hA e hE PT
      go_enter Tryd.func15, Tryd.ntmps15
      obtain ⟨_, c0, c1, c2, c3, c4, c5, c6, c7, c8, c9, c10, c11, c12⟩ := HW.out.b0
      go_wp2_with fail
      refine ((CK _ (S.out.keep HW.out.below)).out).mono ?_
      rintro e x1 ⟨rfl, hb⟩
      clear c0 c1 c2 c3 c4 c5 c6 c7 c8 c9 c10 c11 c12
      have HW := hide (HW.out.keep hb)
      clear hb
      obtain ⟨_, c0, c1, c2, c3, c4, c5, c6, c7, c8, c9, c10, c11, c12⟩ := HW.out.b0
      go_wp2_with fail
      refine ((AL _ (S.out.keep HW.out.below)).out).mono ?_
      rintro e x2 ⟨rfl, hb⟩
      clear c0 c1 c2 c3 c4 c5 c6 c7 c8 c9 c10 c11 c12
      have HW := hide (HW.out.keep hb)
      clear hb
      obtain ⟨⟨_, f0, f1, f2, f3, f4, f5, f6, f7, f8, f9, f10, f11, f12⟩, zf⟩ := HW.out.b4
      obtain ⟨⟨_, k0, k1, k2, k3, k4, k5, k6, k7, k8, k9, k10, k11, k12⟩, zk⟩ := HW.out.b5
      dsimp only [zT] at f0 f1 f2 f3 f4 f5 f6 f7 f8 f9 f10 f11 f12 k0 k1 k2 k3 k4 k5 k6 k7 k8 k9 k10 k11 k12
      have m0 : ¬ w.heap.size + 1 = w.heap.size + 1 + 1 := by omega
      have m1 : ¬ w.heap.size + 1 + 1 = w.heap.size + 1 := by omega
      go_wp2_with fail
      exact bodyPost_ret (v := .tuple #[.agg #[.int .i64 zT.k, .string zT.d, .string zT.r, .string zT.a, .int .i64 zT.q, .int .i64 zT.m, .int .i64 zT.td, .int .i64 zT.sd, .int .i64 zT.p, .bool zT.pa, .int .i64 zT.ml, .string zT.r0, .string zT.r1], .agg #[.int .i64 zT.k, .string zT.d, .string zT.r, .string zT.a, .int .i64 zT.q, .int .i64 zT.m, .int .i64 zT.td, .int .i64 zT.sd, .int .i64 zT.p, .bool zT.pa, .int .i64 zT.ml, .string zT.r0, .string zT.r1], .int .i64 10]) (by simp [results, Tryd.results15, go_sem, zT, zf, zk, f0, f1, f2, f3, f4, f5, f6, f7, f8, f9, f10, f11, f12, k0, k1, k2, k3, k4, k5, k6, k7, k8, k9, k10, k11, k12]) rfl ⟨rfl, below_put zT (below_put zT HW.out.below (by omega)) (by omega)⟩
    · have PT := fun w S => PT w S hA
      cases hP : ptB t n
      · have e : spE t n = 2 := by unfold spE; rw [if_neg (fun h => h hE), if_neg (by rw [hA]; decide), if_pos hP]
        rw [e]
        rw [hA] at AL
        rw [hP] at PT
        clear hA hP e hE
        go_enter Tryd.func15, Tryd.ntmps15
        obtain ⟨_, c0, c1, c2, c3, c4, c5, c6, c7, c8, c9, c10, c11, c12⟩ := HW.out.b0
        go_wp2_with fail
        refine ((CK _ (S.out.keep HW.out.below)).out).mono ?_
        rintro e x1 ⟨rfl, hb⟩
        clear c0 c1 c2 c3 c4 c5 c6 c7 c8 c9 c10 c11 c12
        have HW := hide (HW.out.keep hb)
        clear hb
        obtain ⟨_, c0, c1, c2, c3, c4, c5, c6, c7, c8, c9, c10, c11, c12⟩ := HW.out.b0
        go_wp2_with fail
        refine ((AL _ (S.out.keep HW.out.below)).out).mono ?_
        rintro e x2 ⟨rfl, hb⟩
        clear c0 c1 c2 c3 c4 c5 c6 c7 c8 c9 c10 c11 c12
        have HW := hide (HW.out.keep hb)
        clear hb
        obtain ⟨_, c0, c1, c2, c3, c4, c5, c6, c7, c8, c9, c10, c11, c12⟩ := HW.out.b0
        go_wp2_with fail
        refine ((PT _ (S.out.keep HW.out.below)).out).mono ?_
        rintro e x3 ⟨rfl, hb⟩
        clear c0 c1 c2 c3 c4 c5 c6 c7 c8 c9 c10 c11 c12
        have HW := hide (HW.out.keep hb)
        clear hb
        obtain ⟨⟨_, f0, f1, f2, f3, f4, f5, f6, f7, f8, f9, f10, f11, f12⟩, zf⟩ := HW.out.b4
        obtain ⟨⟨_, k0, k1, k2, k3, k4, k5, k6, k7, k8, k9, k10, k11, k12⟩, zk⟩ := HW.out.b5
        dsimp only [zT] at f0 f1 f2 f3 f4 f5 f6 f7 f8 f9 f10 f11 f12 k0 k1 k2 k3 k4 k5 k6 k7 k8 k9 k10 k11 k12
        have m0 : ¬ w.heap.size + 1 = w.heap.size + 1 + 1 := by omega
        have m1 : ¬ w.heap.size + 1 + 1 = w.heap.size + 1 := by omega
        go_wp2_with fail
        exact bodyPost_ret (v := .tuple #[.agg #[.int .i64 zT.k, .string zT.d, .string zT.r, .string zT.a, .int .i64 zT.q, .int .i64 zT.m, .int .i64 zT.td, .int .i64 zT.sd, .int .i64 zT.p, .bool zT.pa, .int .i64 zT.ml, .string zT.r0, .string zT.r1], .agg #[.int .i64 zT.k, .string zT.d, .string zT.r, .string zT.a, .int .i64 zT.q, .int .i64 zT.m, .int .i64 zT.td, .int .i64 zT.sd, .int .i64 zT.p, .bool zT.pa, .int .i64 zT.ml, .string zT.r0, .string zT.r1], .int .i64 2]) (by simp [results, Tryd.results15, go_sem, zT, zf, zk, f0, f1, f2, f3, f4, f5, f6, f7, f8, f9, f10, f11, f12, k0, k1, k2, k3, k4, k5, k6, k7, k8, k9, k10, k11, k12]) rfl ⟨rfl, below_put zT (below_put zT HW.out.below (by omega)) (by omega)⟩
      · exact absurd (show spE t n = 0 by unfold spE; rw [if_neg (fun h => h hE), if_neg (by rw [hA]; decide), if_neg (by rw [hP]; decide)]) HH.out
  · have e : spE t n = tE t := by unfold spE; rw [if_pos hE]
    rw [e]
    have e1 : (tE t != 0) = true := by simpa using hE
    generalize tE t = E at *
    clear hE e AL PT HH
    go_enter Tryd.func15, Tryd.ntmps15
    obtain ⟨_, c0, c1, c2, c3, c4, c5, c6, c7, c8, c9, c10, c11, c12⟩ := HW.out.b0
    go_wp2_with fail
    refine ((CK _ (S.out.keep HW.out.below)).out).mono ?_
    rintro e x1 ⟨rfl, hb⟩
    clear c0 c1 c2 c3 c4 c5 c6 c7 c8 c9 c10 c11 c12
    have HW := hide (HW.out.keep hb)
    clear hb
    obtain ⟨⟨_, f0, f1, f2, f3, f4, f5, f6, f7, f8, f9, f10, f11, f12⟩, zf⟩ := HW.out.b4
    obtain ⟨⟨_, k0, k1, k2, k3, k4, k5, k6, k7, k8, k9, k10, k11, k12⟩, zk⟩ := HW.out.b5
    dsimp only [zT] at f0 f1 f2 f3 f4 f5 f6 f7 f8 f9 f10 f11 f12 k0 k1 k2 k3 k4 k5 k6 k7 k8 k9 k10 k11 k12
    have m0 : ¬ w.heap.size + 1 = w.heap.size + 1 + 1 := by omega
    have m1 : ¬ w.heap.size + 1 + 1 = w.heap.size + 1 := by omega
    go_wp2_with fail
    exact bodyPost_ret (v := .tuple #[.agg #[.int .i64 zT.k, .string zT.d, .string zT.r, .string zT.a, .int .i64 zT.q, .int .i64 zT.m, .int .i64 zT.td, .int .i64 zT.sd, .int .i64 zT.p, .bool zT.pa, .int .i64 zT.ml, .string zT.r0, .string zT.r1], .agg #[.int .i64 zT.k, .string zT.d, .string zT.r, .string zT.a, .int .i64 zT.q, .int .i64 zT.m, .int .i64 zT.td, .int .i64 zT.sd, .int .i64 zT.p, .bool zT.pa, .int .i64 zT.ml, .string zT.r0, .string zT.r1], .int .i64 E]) (by simp [results, Tryd.results15, go_sem, zT, zf, zk, f0, f1, f2, f3, f4, f5, f6, f7, f8, f9, f10, f11, f12, k0, k1, k2, k3, k4, k5, k6, k7, k8, k9, k10, k11, k12]) rfl ⟨rfl, below_put zT (below_put zT HW.out.below (by omega)) (by omega)⟩
theorem split_any (t : Tr) (n : Int) (w : World) (S : Shp w) (h : t.Ok) : Calls Tryd.prog 15 #[.agg #[.int .i64 t.k, .string t.d, .string t.r, .string t.a, .int .i64 t.q, .int .i64 t.m, .int .i64 t.td, .int .i64 t.sd, .int .i64 t.p, .bool t.pa, .int .i64 t.ml, .string t.r0, .string t.r1], .int .i64 n] w fun e w' => e = .returned (.tuple #[.agg #[.int .i64 (spA t n).k, .string (spA t n).d, .string (spA t n).r, .string (spA t n).a, .int .i64 (spA t n).q, .int .i64 (spA t n).m, .int .i64 (spA t n).td, .int .i64 (spA t n).sd, .int .i64 (spA t n).p, .bool (spA t n).pa, .int .i64 (spA t n).ml, .string (spA t n).r0, .string (spA t n).r1], .agg #[.int .i64 (spB t n).k, .string (spB t n).d, .string (spB t n).r, .string (spB t n).a, .int .i64 (spB t n).q, .int .i64 (spB t n).m, .int .i64 (spB t n).td, .int .i64 (spB t n).sd, .int .i64 (spB t n).p, .bool (spB t n).pa, .int .i64 (spB t n).ml, .string (spB t n).r0, .string (spB t n).r1], .int .i64 (spE t n)]) ∧ Below w.heap.size w w' := by
  by_cases hb : spE t n = 0
  · obtain ⟨hE, hA, hP⟩ := spE_zero hb
    have ea : spA t n = (⟨t.k, t.d, t.r, t.a, n, csh t n, t.td, t.sd, t.p, false, 0, t.r0, t.r1⟩ : Tr) := if_pos hb
    rw [hb, ea]
    by_cases hl : t.q - n < t.ml
    · have eb : spB t n = (⟨t.k, t.d, t.r, t.a, t.q - n, t.m - csh t n, t.td, t.sd, t.p, false, 0, t.r0, t.r1⟩ : Tr) := (if_pos hb).trans (if_pos hl)
      rw [eb]
      exact split_lt t n w S h hE hA hP hl
    · have eb : spB t n = (⟨t.k, t.d, t.r, t.a, t.q - n, t.m - csh t n, t.td, t.sd, t.p, t.pa, t.ml, t.r0, t.r1⟩ : Tr) := (if_pos hb).trans (if_neg hl)
      rw [eb]
      exact split_ge t n w S h hE hA hP hl
  · have ea : spA t n = zT := if_neg hb
    have eb : spB t n = zT := if_neg hb
    rw [ea, eb]
    exact split_bad t n w S h hb
set_option maxHeartbeats 8000000 in
set_option maxRecDepth 20000 in
theorem rsplit_bad (t : Tr) (n : Int) (w : World) (h : t.Ok) (hb : spE t n ≠ 0) : Calls Tryd.prog 16 #[.agg #[.int .i64 t.k, .string t.d, .string t.r, .string t.a, .int .i64 t.q, .int .i64 t.m, .int .i64 t.td, .int .i64 t.sd, .int .i64 t.p, .bool t.pa, .int .i64 t.ml, .string t.r0, .string t.r1], .int .i64 n] w fun e w' => e = .returned (.tuple #[.agg #[.int .i64 zT.k, .string zT.d, .string zT.r, .string zT.a, .int .i64 zT.q, .int .i64 zT.m, .int .i64 zT.td, .int .i64 zT.sd, .int .i64 zT.p, .bool zT.pa, .int .i64 zT.ml, .string zT.r0, .string zT.r1], .agg #[.int .i64 zT.k, .string zT.d, .string zT.r, .string zT.a, .int .i64 zT.q, .int .i64 zT.m, .int .i64 zT.td, .int .i64 zT.sd, .int .i64 zT.p, .bool zT.pa, .int .i64 zT.ml, .string zT.r0, .string zT.r1], .int .i64 (spE t n)]) ∧ Below w.heap.size w w' := by
  have CK := fun w => hide (rcheck_any t w h)
  have AL := fun w => hide (ral_any t w h)
  have PT := fun w hA => hide (rpart_any t n w h hA)
  have HH := hide hb
  clear h hb
  have HW : Hid (WS w t (((w.alloc (Obj.cells #[.int .i64 t.k, .string t.d, .string t.r, .string t.a, .int .i64 t.q, .int .i64 t.m, .int .i64 t.td, .int .i64 t.sd, .int .i64 t.p, .bool t.pa, .int .i64 t.ml, .string t.r0, .string t.r1] 24)).alloc (Obj.cells #[.int .i64 zT.k, .string zT.d, .string zT.r, .string zT.a, .int .i64 zT.q, .int .i64 zT.m, .int .i64 zT.td, .int .i64 zT.sd, .int .i64 zT.p, .bool zT.pa, .int .i64 zT.ml, .string zT.r0, .string zT.r1] 24)).alloc (Obj.cells #[.int .i64 zT.k, .string zT.d, .string zT.r, .string zT.a, .int .i64 zT.q, .int .i64 zT.m, .int .i64 zT.td, .int .i64 zT.sd, .int .i64 zT.p, .bool zT.pa, .int .i64 zT.ml, .string zT.r0, .string zT.r1] 24))) := by
    have s4 : (w.alloc (Obj.cells #[.int .i64 t.k, .string t.d, .string t.r, .string t.a, .int .i64 t.q, .int .i64 t.m, .int .i64 t.td, .int .i64 t.sd, .int .i64 t.p, .bool t.pa, .int .i64 t.ml, .string t.r0, .string t.r1] 24)).heap.size = w.heap.size + 1 := by simp
    have s5 : ((w.alloc (Obj.cells #[.int .i64 t.k, .string t.d, .string t.r, .string t.a, .int .i64 t.q, .int .i64 t.m, .int .i64 t.td, .int .i64 t.sd, .int .i64 t.p, .bool t.pa, .int .i64 t.ml, .string t.r0, .string t.r1] 24)).alloc (Obj.cells #[.int .i64 zT.k, .string zT.d, .string zT.r, .string zT.a, .int .i64 zT.q, .int .i64 zT.m, .int .i64 zT.td, .int .i64 zT.sd, .int .i64 zT.p, .bool zT.pa, .int .i64 zT.ml, .string zT.r0, .string zT.r1] 24)).heap.size = w.heap.size + 1 + 1 := by simp
    have H4 := ((RB.new zT (w.alloc (Obj.cells #[.int .i64 t.k, .string t.d, .string t.r, .string t.a, .int .i64 t.q, .int .i64 t.m, .int .i64 t.td, .int .i64 t.sd, .int .i64 t.p, .bool t.pa, .int .i64 t.ml, .string t.r0, .string t.r1] 24)) 24).keep (one_alloc _ (Obj.cells #[.int .i64 zT.k, .string zT.d, .string zT.r, .string zT.a, .int .i64 zT.q, .int .i64 zT.m, .int .i64 zT.td, .int .i64 zT.sd, .int .i64 zT.p, .bool zT.pa, .int .i64 zT.ml, .string zT.r0, .string zT.r1] 24)))
    have H5 := (RB.new zT ((w.alloc (Obj.cells #[.int .i64 t.k, .string t.d, .string t.r, .string t.a, .int .i64 t.q, .int .i64 t.m, .int .i64 t.td, .int .i64 t.sd, .int .i64 t.p, .bool t.pa, .int .i64 t.ml, .string t.r0, .string t.r1] 24)).alloc (Obj.cells #[.int .i64 zT.k, .string zT.d, .string zT.r, .string zT.a, .int .i64 zT.q, .int .i64 zT.m, .int .i64 zT.td, .int .i64 zT.sd, .int .i64 zT.p, .bool zT.pa, .int .i64 zT.ml, .string zT.r0, .string zT.r1] 24)) 24)
    rw [s4] at H4
    rw [s5] at H5
    exact ⟨((one_alloc w (Obj.cells #[.int .i64 t.k, .string t.d, .string t.r, .string t.a, .int .i64 t.q, .int .i64 t.m, .int .i64 t.td, .int .i64 t.sd, .int .i64 t.p, .bool t.pa, .int .i64 t.ml, .string t.r0, .string t.r1] 24)).alloc (by simp) (Obj.cells #[.int .i64 zT.k, .string zT.d, .string zT.r, .string zT.a, .int .i64 zT.q, .int .i64 zT.m, .int .i64 zT.td, .int .i64 zT.sd, .int .i64 zT.p, .bool zT.pa, .int .i64 zT.ml, .string zT.r0, .string zT.r1] 24)).alloc (by simp; omega) (Obj.cells #[.int .i64 zT.k, .string zT.d, .string zT.r, .string zT.a, .int .i64 zT.q, .int .i64 zT.m, .int .i64 zT.td, .int .i64 zT.sd, .int .i64 zT.p, .bool zT.pa, .int .i64 zT.ml, .string zT.r0, .string zT.r1] 24), ((TB.new t w 24).keep (one_alloc _ (Obj.cells #[.int .i64 zT.k, .string zT.d, .string zT.r, .string zT.a, .int .i64 zT.q, .int .i64 zT.m, .int .i64 zT.td, .int .i64 zT.sd, .int .i64 zT.p, .bool zT.pa, .int .i64 zT.ml, .string zT.r0, .string zT.r1] 24))).keep (one_alloc _ (Obj.cells #[.int .i64 zT.k, .string zT.d, .string zT.r, .string zT.a, .int .i64 zT.q, .int .i64 zT.m, .int .i64 zT.td, .int .i64 zT.sd, .int .i64 zT.p, .bool zT.pa, .int .i64 zT.ml, .string zT.r0, .string zT.r1] 24)), H4, H5⟩
  by_cases hE : tE t = 0
  · have HE := hide hE
    rw [hE] at CK
    cases hA : alB t
    · have e : spE t n = 10 := by unfold spE; rw [if_neg (fun h => h hE), if_pos hA]
      rw [e]
      rw [hA] at AL
      clear hA e hE PT
      go_enter Tryd.func16, Tryd.ntmps16
      obtain ⟨_, c0, c1, c2, c3, c4, c5, c6, c7, c8, c9, c10, c11, c12⟩ := HW.out.b0
      go_wp2_with fail
      refine ((CK _).out).mono ?_
      rintro e x1 ⟨rfl, hb⟩
      clear c0 c1 c2 c3 c4 c5 c6 c7 c8 c9 c10 c11 c12
      have HW := hide (HW.out.keep hb)
      clear hb
      obtain ⟨_, c0, c1, c2, c3, c4, c5, c6, c7, c8, c9, c10, c11, c12⟩ := HW.out.b0
      go_wp2_with fail
      refine ((AL _).out).mono ?_
      rintro e x2 ⟨rfl, hb⟩
      clear c0 c1 c2 c3 c4 c5 c6 c7 c8 c9 c10 c11 c12
      have HW := hide (HW.out.keep hb)
      clear hb
      obtain ⟨⟨_, f0, f1, f2, f3, f4, f5, f6, f7, f8, f9, f10, f11, f12⟩, zf⟩ := HW.out.b4
      obtain ⟨⟨_, k0, k1, k2, k3, k4, k5, k6, k7, k8, k9, k10, k11, k12⟩, zk⟩ := HW.out.b5
      dsimp only [zT] at f0 f1 f2 f3 f4 f5 f6 f7 f8 f9 f10 f11 f12 k0 k1 k2 k3 k4 k5 k6 k7 k8 k9 k10 k11 k12
      have m0 : ¬ w.heap.size + 1 = w.heap.size + 1 + 1 := by omega
      have m1 : ¬ w.heap.size + 1 + 1 = w.heap.size + 1 := by omega
      go_wp2_with fail
      exact bodyPost_ret (v := .tuple #[.agg #[.int .i64 zT.k, .string zT.d, .string zT.r, .string zT.a, .int .i64 zT.q, .int .i64 zT.m, .int .i64 zT.td, .int .i64 zT.sd, .int .i64 zT.p, .bool zT.pa, .int .i64 zT.ml, .string zT.r0, .string zT.r1], .agg #[.int .i64 zT.k, .string zT.d, .string zT.r, .string zT.a, .int .i64 zT.q, .int .i64 zT.m, .int .i64 zT.td, .int .i64 zT.sd, .int .i64 zT.p, .bool zT.pa, .int .i64 zT.ml, .string zT.r0, .string zT.r1], .int .i64 10]) (by simp [results, Tryd.results16, go_sem, zT, zf, zk, f0, f1, f2, f3, f4, f5, f6, f7, f8, f9, f10, f11, f12, k0, k1, k2, k3, k4, k5, k6, k7, k8, k9, k10, k11, k12]) rfl ⟨rfl, below_put zT (below_put zT HW.out.below (by omega)) (by omega)⟩
    · have PT := fun w => PT w hA
      cases hP : ptB t n
      · have e : spE t n = 2 := by unfold spE; rw [if_neg (fun h => h hE), if_neg (by rw [hA]; decide), if_pos hP]
        rw [e]
        rw [hA] at AL
        rw [hP] at PT
        clear hA hP e hE
        go_enter Tryd.func16, Tryd.ntmps16
        obtain ⟨_, c0, c1, c2, c3, c4, c5, c6, c7, c8, c9, c10, c11, c12⟩ := HW.out.b0
        go_wp2_with fail
        refine ((CK _).out).mono ?_
        rintro e x1 ⟨rfl, hb⟩
        clear c0 c1 c2 c3 c4 c5 c6 c7 c8 c9 c10 c11 c12
        have HW := hide (HW.out.keep hb)
        clear hb
        obtain ⟨_, c0, c1, c2, c3, c4, c5, c6, c7, c8, c9, c10, c11, c12⟩ := HW.out.b0
        go_wp2_with fail
        refine ((AL _).out).mono ?_
        rintro e x2 ⟨rfl, hb⟩
        clear c0 c1 c2 c3 c4 c5 c6 c7 c8 c9 c10 c11 c12
        have HW := hide (HW.out.keep hb)
        clear hb
        obtain ⟨_, c0, c1, c2, c3, c4, c5, c6, c7, c8, c9, c10, c11, c12⟩ := HW.out.b0
        go_wp2_with fail
        refine ((PT _).out).mono ?_
        rintro e x3 ⟨rfl, hb⟩
        clear c0 c1 c2 c3 c4 c5 c6 c7 c8 c9 c10 c11 c12
        have HW := hide (HW.out.keep hb)
        clear hb
        obtain ⟨⟨_, f0, f1, f2, f3, f4, f5, f6, f7, f8, f9, f10, f11, f12⟩, zf⟩ := HW.out.b4
        obtain ⟨⟨_, k0, k1, k2, k3, k4, k5, k6, k7, k8, k9, k10, k11, k12⟩, zk⟩ := HW.out.b5
        dsimp only [zT] at f0 f1 f2 f3 f4 f5 f6 f7 f8 f9 f10 f11 f12 k0 k1 k2 k3 k4 k5 k6 k7 k8 k9 k10 k11 k12
        have m0 : ¬ w.heap.size + 1 = w.heap.size + 1 + 1 := by omega
        have m1 : ¬ w.heap.size + 1 + 1 = w.heap.size + 1 := by omega
        go_wp2_with fail
        exact bodyPost_ret (v := .tuple #[.agg #[.int .i64 zT.k, .string zT.d, .string zT.r, .string zT.a, .int .i64 zT.q, .int .i64 zT.m, .int .i64 zT.td, .int .i64 zT.sd, .int .i64 zT.p, .bool zT.pa, .int .i64 zT.ml, .string zT.r0, .string zT.r1], .agg #[.int .i64 zT.k, .string zT.d, .string zT.r, .string zT.a, .int .i64 zT.q, .int .i64 zT.m, .int .i64 zT.td, .int .i64 zT.sd, .int .i64 zT.p, .bool zT.pa, .int .i64 zT.ml, .string zT.r0, .string zT.r1], .int .i64 2]) (by simp [results, Tryd.results16, go_sem, zT, zf, zk, f0, f1, f2, f3, f4, f5, f6, f7, f8, f9, f10, f11, f12, k0, k1, k2, k3, k4, k5, k6, k7, k8, k9, k10, k11, k12]) rfl ⟨rfl, below_put zT (below_put zT HW.out.below (by omega)) (by omega)⟩
      · exact absurd (show spE t n = 0 by unfold spE; rw [if_neg (fun h => h hE), if_neg (by rw [hA]; decide), if_neg (by rw [hP]; decide)]) HH.out
  · have e : spE t n = tE t := by unfold spE; rw [if_pos hE]
    rw [e]
    have e1 : (tE t != 0) = true := by simpa using hE
    generalize tE t = E at *
    clear hE e AL PT HH
    go_enter Tryd.func16, Tryd.ntmps16
    obtain ⟨_, c0, c1, c2, c3, c4, c5, c6, c7, c8, c9, c10, c11, c12⟩ := HW.out.b0
    go_wp2_with fail
    refine ((CK _).out).mono ?_
    rintro e x1 ⟨rfl, hb⟩
    clear c0 c1 c2 c3 c4 c5 c6 c7 c8 c9 c10 c11 c12
    have HW := hide (HW.out.keep hb)
    clear hb
    obtain ⟨⟨_, f0, f1, f2, f3, f4, f5, f6, f7, f8, f9, f10, f11, f12⟩, zf⟩ := HW.out.b4
    obtain ⟨⟨_, k0, k1, k2, k3, k4, k5, k6, k7, k8, k9, k10, k11, k12⟩, zk⟩ := HW.out.b5
    dsimp only [zT] at f0 f1 f2 f3 f4 f5 f6 f7 f8 f9 f10 f11 f12 k0 k1 k2 k3 k4 k5 k6 k7 k8 k9 k10 k11 k12
    have m0 : ¬ w.heap.size + 1 = w.heap.size + 1 + 1 := by omega
    have m1 : ¬ w.heap.size + 1 + 1 = w.heap.size + 1 := by omega
    go_wp2_with fail
    exact bodyPost_ret (v := .tuple #[.agg #[.int .i64 zT.k, .string zT.d, .string zT.r, .string zT.a, .int .i64 zT.q, .int .i64 zT.m, .int .i64 zT.td, .int .i64 zT.sd, .int .i64 zT.p, .bool zT.pa, .int .i64 zT.ml, .string zT.r0, .string zT.r1], .agg #[.int .i64 zT.k, .string zT.d, .string zT.r, .string zT.a, .int .i64 zT.q, .int .i64 zT.m, .int .i64 zT.td, .int .i64 zT.sd, .int .i64 zT.p, .bool zT.pa, .int .i64 zT.ml, .string zT.r0, .string zT.r1], .int .i64 E]) (by simp [results, Tryd.results16, go_sem, zT, zf, zk, f0, f1, f2, f3, f4, f5, f6, f7, f8, f9, f10, f11, f12, k0, k1, k2, k3, k4, k5, k6, k7, k8, k9, k10, k11, k12]) rfl ⟨rfl, below_put zT (below_put zT HW.out.below (by omega)) (by omega)⟩
theorem rsplit_any (t : Tr) (n : Int) (w : World) (h : t.Ok) : Calls Tryd.prog 16 #[.agg #[.int .i64 t.k, .string t.d, .string t.r, .string t.a, .int .i64 t.q, .int .i64 t.m, .int .i64 t.td, .int .i64 t.sd, .int .i64 t.p, .bool t.pa, .int .i64 t.ml, .string t.r0, .string t.r1], .int .i64 n] w fun e w' => e = .returned (.tuple #[.agg #[.int .i64 (spA t n).k, .string (spA t n).d, .string (spA t n).r, .string (spA t n).a, .int .i64 (spA t n).q, .int .i64 (spA t n).m, .int .i64 (spA t n).td, .int .i64 (spA t n).sd, .int .i64 (spA t n).p, .bool (spA t n).pa, .int .i64 (spA t n).ml, .string (spA t n).r0, .string (spA t n).r1], .agg #[.int .i64 (spB t n).k, .string (spB t n).d, .string (spB t n).r, .string (spB t n).a, .int .i64 (spB t n).q, .int .i64 (spB t n).m, .int .i64 (spB t n).td, .int .i64 (spB t n).sd, .int .i64 (spB t n).p, .bool (spB t n).pa, .int .i64 (spB t n).ml, .string (spB t n).r0, .string (spB t n).r1], .int .i64 (spE t n)]) ∧ Below w.heap.size w w' := by
  by_cases hb : spE t n = 0
  · obtain ⟨hE, hA, hP⟩ := spE_zero hb
    have ea : spA t n = (⟨t.k, t.d, t.r, t.a, n, csh t n, t.td, t.sd, t.p, false, 0, t.r0, t.r1⟩ : Tr) := if_pos hb
    rw [hb, ea]
    by_cases hl : t.q - n < t.ml
    · have eb : spB t n = (⟨t.k, t.d, t.r, t.a, t.q - n, t.m - csh t n, t.td, t.sd, t.p, false, 0, t.r0, t.r1⟩ : Tr) := (if_pos hb).trans (if_pos hl)
      rw [eb]
      exact rsplit_lt t n w h hE hA hP hl
    · have eb : spB t n = (⟨t.k, t.d, t.r, t.a, t.q - n, t.m - csh t n, t.td, t.sd, t.p, t.pa, t.ml, t.r0, t.r1⟩ : Tr) := (if_pos hb).trans (if_neg hl)
      rw [eb]
      exact rsplit_ge t n w h hE hA hP hl
  · have ea : spA t n = zT := if_neg hb
    have eb : spB t n = zT := if_neg hb
    rw [ea, eb]
    exact rsplit_bad t n w h hb
end Go.Proofs.YtipgpmjhoaenlaaDoor
