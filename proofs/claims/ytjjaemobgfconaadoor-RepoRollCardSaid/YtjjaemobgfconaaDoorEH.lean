/-
  Net.
-/
import Derived.Test.YtjjaemobgfconaaDoorE9
import Derived.WalkKit
import Derived.Deep.QuietTactic
import Derived.BigQuiet
import Derived.Laws.EntriesVeiled
import Derived.Lib.MinMax
import Derived.Deep.Light
namespace Go.Proofs.YtjjaemobgfconaaDoor
open Go.RowKit
set_option linter.unusedVariables false
set_option linter.unusedSimpArgs false
set_option linter.unnecessarySimpa false

/-- What Net answers: the error; the difference. -/
def neM (t u : Ag) : Prop := u.se = t.se ∧ u.bu = t.bu ∧ u.sn = t.sn ∧ u.q = t.q ∧ u.op = t.cl
instance (t u : Ag) : Decidable (neM t u) := by unfold neM; infer_instance
def neE (t u : Ag) : Int := if agE t ≠ 0 then agE t else if agE u ≠ 0 then agE u else if neM t u then 0 else 17
def neV (t u : Ag) : Int := if neE t u = 0 then reV t - u.c else 0
theorem ne_ok {t u : Ag} (h : neE t u = 0) : agE t = 0 ∧ agE u = 0 ∧ neM t u := by
  unfold neE at h
  split at h
  · rename_i h1; exact absurd h h1
  · rename_i h1
    split at h
    · rename_i h2; exact absurd h h2
    · rename_i h2
      split at h
      · rename_i h3; exact ⟨by simpa using h1, by simpa using h2, h3⟩
      · cases h
theorem c_of {t : Ag} (h : agE t = 0) : 1 ≤ t.c ∧ t.c ≤ 1000000000000000 := by
  obtain ⟨z0, z1, z2, z3⟩ := ag_ok h
  have hF := fit_of z1
  exact ⟨hF.c1, hF.c2⟩
set_option maxHeartbeats 8000000 in
set_option maxRecDepth 20000 in
theorem net_any (t u : Ag) (w : World) (S : Shp w) (h : t.Ok) (hu : u.Ok) : Calls Tryd.prog 19 #[.agg #[.string t.rf, .string t.se, .string t.bu, .string t.sn, .int .i64 t.q, .int .i64 t.c, .int .i64 t.n, .int .i64 t.d, .int .i64 t.op, .int .i64 t.cl], .agg #[.string u.rf, .string u.se, .string u.bu, .string u.sn, .int .i64 u.q, .int .i64 u.c, .int .i64 u.n, .int .i64 u.d, .int .i64 u.op, .int .i64 u.cl]] w fun e w' => e = .returned (.tuple #[.int .i64 (neV t u), .int .i64 (neE t u)]) ∧ Below w.heap.size w w' := by
  have S := hide S
  have RP := fun w S => hide (repay_any t w S h)
  have CK := fun w S => hide (acheck_any u w S hu)
  clear h hu
  have hs1 : (w.alloc (Obj.cells #[.string t.rf, .string t.se, .string t.bu, .string t.sn, .int .i64 t.q, .int .i64 t.c, .int .i64 t.n, .int .i64 t.d, .int .i64 t.op, .int .i64 t.cl] 28)).heap.size = w.heap.size + 1 := Array.size_push _
  have A2 := one_alloc (w.alloc (Obj.cells #[.string t.rf, .string t.se, .string t.bu, .string t.sn, .int .i64 t.q, .int .i64 t.c, .int .i64 t.n, .int .i64 t.d, .int .i64 t.op, .int .i64 t.cl] 28)) (Obj.cells #[.string u.rf, .string u.se, .string u.bu, .string u.sn, .int .i64 u.q, .int .i64 u.c, .int .i64 u.n, .int .i64 u.d, .int .i64 u.op, .int .i64 u.cl] 28)
  have HR := hide (two_allocs w (Obj.cells #[.string t.rf, .string t.se, .string t.bu, .string t.sn, .int .i64 t.q, .int .i64 t.c, .int .i64 t.n, .int .i64 t.d, .int .i64 t.op, .int .i64 t.cl] 28) (Obj.cells #[.string u.rf, .string u.se, .string u.bu, .string u.sn, .int .i64 u.q, .int .i64 u.c, .int .i64 u.n, .int .i64 u.d, .int .i64 u.op, .int .i64 u.cl] 28))
  have HB := hide ((RB.new t w 28).keep A2)
  have hC := RB.new u (w.alloc (Obj.cells #[.string t.rf, .string t.se, .string t.bu, .string t.sn, .int .i64 t.q, .int .i64 t.c, .int .i64 t.n, .int .i64 t.d, .int .i64 t.op, .int .i64 t.cl] 28)) 28
  rw [hs1] at hC
  have HC := hide hC
  clear hC A2 hs1
  have hE := hide (show neE t u = if agE t ≠ 0 then agE t else if agE u ≠ 0 then agE u else if neM t u then 0 else 17 from rfl)
  have hV := hide (show neV t u = if neE t u = 0 then reV t - u.c else 0 from rfl)
  by_cases hz : agE t = 0
  · obtain ⟨v1, v2⟩ := reV_bd hz
    rw [hz] at RP
    by_cases hy : agE u = 0
    · obtain ⟨k1, k2⟩ := c_of hy
      rw [hy] at CK
      by_cases g0 : u.se = t.se
      rotate_left
      · obtain e1 : neE t u = 17 := by rw [hE.out, if_neg (by rw [hz]; decide), if_neg (by rw [hy]; decide), if_neg (by rintro ⟨h0, h1, h2, h3, h4⟩; exact g0 h0)]
        obtain e2 : neV t u = 0 := by rw [hV.out, e1, if_neg (by decide)]
        rw [e1, e2]
        clear e1 e2 hE hV hz hy
        have n1 := toList_ne g0
        have n2 := toList_ne (Ne.symm g0)
        generalize reV t = V at *
        go_enter Tryd.func19, Tryd.ntmps19
        obtain ⟨_, c0, c1, c2, c3, c4, c5, c6, c7, c8, c9⟩ := HB.out
        obtain ⟨_, e0, e1, e2, e3, e4, e5, e6, e7, e8, e9⟩ := HC.out
        go_wp2_with fail
        generalize (w.alloc (Obj.cells #[.string t.rf, .string t.se, .string t.bu, .string t.sn, .int .i64 t.q, .int .i64 t.c, .int .i64 t.n, .int .i64 t.d, .int .i64 t.op, .int .i64 t.cl] 28)).alloc (Obj.cells #[.string u.rf, .string u.se, .string u.bu, .string u.sn, .int .i64 u.q, .int .i64 u.c, .int .i64 u.n, .int .i64 u.d, .int .i64 u.op, .int .i64 u.cl] 28) = X at *
        refine ((RP _ (S.out.keep HR.out)).out).mono ?_
        rintro e x ⟨rfl, hb⟩
        have HB := hide (HB.out.keep hb)
        have HC := hide (HC.out.keep hb)
        have HR := hide (HR.out.trans (hb.mono HR.out.size))
        clear hb c0 c1 c2 c3 c4 c5 c6 c7 c8 c9 e0 e1 e2 e3 e4 e5 e6 e7 e8 e9
        obtain ⟨_, c0, c1, c2, c3, c4, c5, c6, c7, c8, c9⟩ := HB.out
        obtain ⟨_, e0, e1, e2, e3, e4, e5, e6, e7, e8, e9⟩ := HC.out
        go_wp2_with fail
        refine ((CK _ (S.out.keep HR.out)).out).mono ?_
        rintro e x2 ⟨rfl, hb⟩
        have HB := hide (HB.out.keep hb)
        have HC := hide (HC.out.keep hb)
        have HR := hide (HR.out.trans (hb.mono HR.out.size))
        clear hb c0 c1 c2 c3 c4 c5 c6 c7 c8 c9 e0 e1 e2 e3 e4 e5 e6 e7 e8 e9
        obtain ⟨_, c0, c1, c2, c3, c4, c5, c6, c7, c8, c9⟩ := HB.out
        obtain ⟨_, e0, e1, e2, e3, e4, e5, e6, e7, e8, e9⟩ := HC.out
        go_wp2_with fail
        go_ret2
        exact ⟨rfl, HR.out⟩
      by_cases g1 : u.bu = t.bu
      rotate_left
      · obtain e1 : neE t u = 17 := by rw [hE.out, if_neg (by rw [hz]; decide), if_neg (by rw [hy]; decide), if_neg (by rintro ⟨h0, h1, h2, h3, h4⟩; exact g1 h1)]
        obtain e2 : neV t u = 0 := by rw [hV.out, e1, if_neg (by decide)]
        rw [e1, e2]
        clear e1 e2 hE hV hz hy
        have n1 := toList_ne g1
        have n2 := toList_ne (Ne.symm g1)
        generalize reV t = V at *
        have G0 := hide g0
        clear g0
        go_enter Tryd.func19, Tryd.ntmps19
        obtain ⟨_, c0, c1, c2, c3, c4, c5, c6, c7, c8, c9⟩ := HB.out
        obtain ⟨_, e0, e1, e2, e3, e4, e5, e6, e7, e8, e9⟩ := HC.out
        go_wp2_with fail
        generalize (w.alloc (Obj.cells #[.string t.rf, .string t.se, .string t.bu, .string t.sn, .int .i64 t.q, .int .i64 t.c, .int .i64 t.n, .int .i64 t.d, .int .i64 t.op, .int .i64 t.cl] 28)).alloc (Obj.cells #[.string u.rf, .string u.se, .string u.bu, .string u.sn, .int .i64 u.q, .int .i64 u.c, .int .i64 u.n, .int .i64 u.d, .int .i64 u.op, .int .i64 u.cl] 28) = X at *
        refine ((RP _ (S.out.keep HR.out)).out).mono ?_
        rintro e x ⟨rfl, hb⟩
        have HB := hide (HB.out.keep hb)
        have HC := hide (HC.out.keep hb)
        have HR := hide (HR.out.trans (hb.mono HR.out.size))
        clear hb c0 c1 c2 c3 c4 c5 c6 c7 c8 c9 e0 e1 e2 e3 e4 e5 e6 e7 e8 e9
        obtain ⟨_, c0, c1, c2, c3, c4, c5, c6, c7, c8, c9⟩ := HB.out
        obtain ⟨_, e0, e1, e2, e3, e4, e5, e6, e7, e8, e9⟩ := HC.out
        go_wp2_with fail
        refine ((CK _ (S.out.keep HR.out)).out).mono ?_
        rintro e x2 ⟨rfl, hb⟩
        have HB := hide (HB.out.keep hb)
        have HC := hide (HC.out.keep hb)
        have HR := hide (HR.out.trans (hb.mono HR.out.size))
        clear hb c0 c1 c2 c3 c4 c5 c6 c7 c8 c9 e0 e1 e2 e3 e4 e5 e6 e7 e8 e9
        obtain ⟨_, c0, c1, c2, c3, c4, c5, c6, c7, c8, c9⟩ := HB.out
        obtain ⟨_, e0, e1, e2, e3, e4, e5, e6, e7, e8, e9⟩ := HC.out
        rw [G0.out] at e1
        go_wp2_with fail
        go_ret2
        exact ⟨rfl, HR.out⟩
      by_cases g2 : u.sn = t.sn
      rotate_left
      · obtain e1 : neE t u = 17 := by rw [hE.out, if_neg (by rw [hz]; decide), if_neg (by rw [hy]; decide), if_neg (by rintro ⟨h0, h1, h2, h3, h4⟩; exact g2 h2)]
        obtain e2 : neV t u = 0 := by rw [hV.out, e1, if_neg (by decide)]
        rw [e1, e2]
        clear e1 e2 hE hV hz hy
        have n1 := toList_ne g2
        have n2 := toList_ne (Ne.symm g2)
        generalize reV t = V at *
        have G0 := hide g0
        clear g0
        have G1 := hide g1
        clear g1
        go_enter Tryd.func19, Tryd.ntmps19
        obtain ⟨_, c0, c1, c2, c3, c4, c5, c6, c7, c8, c9⟩ := HB.out
        obtain ⟨_, e0, e1, e2, e3, e4, e5, e6, e7, e8, e9⟩ := HC.out
        go_wp2_with fail
        generalize (w.alloc (Obj.cells #[.string t.rf, .string t.se, .string t.bu, .string t.sn, .int .i64 t.q, .int .i64 t.c, .int .i64 t.n, .int .i64 t.d, .int .i64 t.op, .int .i64 t.cl] 28)).alloc (Obj.cells #[.string u.rf, .string u.se, .string u.bu, .string u.sn, .int .i64 u.q, .int .i64 u.c, .int .i64 u.n, .int .i64 u.d, .int .i64 u.op, .int .i64 u.cl] 28) = X at *
        refine ((RP _ (S.out.keep HR.out)).out).mono ?_
        rintro e x ⟨rfl, hb⟩
        have HB := hide (HB.out.keep hb)
        have HC := hide (HC.out.keep hb)
        have HR := hide (HR.out.trans (hb.mono HR.out.size))
        clear hb c0 c1 c2 c3 c4 c5 c6 c7 c8 c9 e0 e1 e2 e3 e4 e5 e6 e7 e8 e9
        obtain ⟨_, c0, c1, c2, c3, c4, c5, c6, c7, c8, c9⟩ := HB.out
        obtain ⟨_, e0, e1, e2, e3, e4, e5, e6, e7, e8, e9⟩ := HC.out
        go_wp2_with fail
        refine ((CK _ (S.out.keep HR.out)).out).mono ?_
        rintro e x2 ⟨rfl, hb⟩
        have HB := hide (HB.out.keep hb)
        have HC := hide (HC.out.keep hb)
        have HR := hide (HR.out.trans (hb.mono HR.out.size))
        clear hb c0 c1 c2 c3 c4 c5 c6 c7 c8 c9 e0 e1 e2 e3 e4 e5 e6 e7 e8 e9
        obtain ⟨_, c0, c1, c2, c3, c4, c5, c6, c7, c8, c9⟩ := HB.out
        obtain ⟨_, e0, e1, e2, e3, e4, e5, e6, e7, e8, e9⟩ := HC.out
        rw [G0.out] at e1
        rw [G1.out] at e2
        go_wp2_with fail
        go_ret2
        exact ⟨rfl, HR.out⟩
      by_cases g3 : u.q = t.q
      rotate_left
      · obtain e1 : neE t u = 17 := by rw [hE.out, if_neg (by rw [hz]; decide), if_neg (by rw [hy]; decide), if_neg (by rintro ⟨h0, h1, h2, h3, h4⟩; exact g3 h3)]
        obtain e2 : neV t u = 0 := by rw [hV.out, e1, if_neg (by decide)]
        rw [e1, e2]
        clear e1 e2 hE hV hz hy
        have n1 : ¬ t.q = u.q := fun h => g3 h.symm
        generalize reV t = V at *
        have G0 := hide g0
        clear g0
        have G1 := hide g1
        clear g1
        have G2 := hide g2
        clear g2
        go_enter Tryd.func19, Tryd.ntmps19
        obtain ⟨_, c0, c1, c2, c3, c4, c5, c6, c7, c8, c9⟩ := HB.out
        obtain ⟨_, e0, e1, e2, e3, e4, e5, e6, e7, e8, e9⟩ := HC.out
        go_wp2_with fail
        generalize (w.alloc (Obj.cells #[.string t.rf, .string t.se, .string t.bu, .string t.sn, .int .i64 t.q, .int .i64 t.c, .int .i64 t.n, .int .i64 t.d, .int .i64 t.op, .int .i64 t.cl] 28)).alloc (Obj.cells #[.string u.rf, .string u.se, .string u.bu, .string u.sn, .int .i64 u.q, .int .i64 u.c, .int .i64 u.n, .int .i64 u.d, .int .i64 u.op, .int .i64 u.cl] 28) = X at *
        refine ((RP _ (S.out.keep HR.out)).out).mono ?_
        rintro e x ⟨rfl, hb⟩
        have HB := hide (HB.out.keep hb)
        have HC := hide (HC.out.keep hb)
        have HR := hide (HR.out.trans (hb.mono HR.out.size))
        clear hb c0 c1 c2 c3 c4 c5 c6 c7 c8 c9 e0 e1 e2 e3 e4 e5 e6 e7 e8 e9
        obtain ⟨_, c0, c1, c2, c3, c4, c5, c6, c7, c8, c9⟩ := HB.out
        obtain ⟨_, e0, e1, e2, e3, e4, e5, e6, e7, e8, e9⟩ := HC.out
        go_wp2_with fail
        refine ((CK _ (S.out.keep HR.out)).out).mono ?_
        rintro e x2 ⟨rfl, hb⟩
        have HB := hide (HB.out.keep hb)
        have HC := hide (HC.out.keep hb)
        have HR := hide (HR.out.trans (hb.mono HR.out.size))
        clear hb c0 c1 c2 c3 c4 c5 c6 c7 c8 c9 e0 e1 e2 e3 e4 e5 e6 e7 e8 e9
        obtain ⟨_, c0, c1, c2, c3, c4, c5, c6, c7, c8, c9⟩ := HB.out
        obtain ⟨_, e0, e1, e2, e3, e4, e5, e6, e7, e8, e9⟩ := HC.out
        rw [G0.out] at e1
        rw [G1.out] at e2
        rw [G2.out] at e3
        go_wp2_with fail
        go_ret2
        exact ⟨rfl, HR.out⟩
      by_cases g4 : u.op = t.cl
      rotate_left
      · obtain e1 : neE t u = 17 := by rw [hE.out, if_neg (by rw [hz]; decide), if_neg (by rw [hy]; decide), if_neg (by rintro ⟨h0, h1, h2, h3, h4⟩; exact g4 h4)]
        obtain e2 : neV t u = 0 := by rw [hV.out, e1, if_neg (by decide)]
        rw [e1, e2]
        clear e1 e2 hE hV hz hy
        have n1 : ¬ t.cl = u.op := fun h => g4 h.symm
        generalize reV t = V at *
        have G0 := hide g0
        clear g0
        have G1 := hide g1
        clear g1
        have G2 := hide g2
        clear g2
        have G3 := hide g3
        clear g3
        go_enter Tryd.func19, Tryd.ntmps19
        obtain ⟨_, c0, c1, c2, c3, c4, c5, c6, c7, c8, c9⟩ := HB.out
        obtain ⟨_, e0, e1, e2, e3, e4, e5, e6, e7, e8, e9⟩ := HC.out
        go_wp2_with fail
        generalize (w.alloc (Obj.cells #[.string t.rf, .string t.se, .string t.bu, .string t.sn, .int .i64 t.q, .int .i64 t.c, .int .i64 t.n, .int .i64 t.d, .int .i64 t.op, .int .i64 t.cl] 28)).alloc (Obj.cells #[.string u.rf, .string u.se, .string u.bu, .string u.sn, .int .i64 u.q, .int .i64 u.c, .int .i64 u.n, .int .i64 u.d, .int .i64 u.op, .int .i64 u.cl] 28) = X at *
        refine ((RP _ (S.out.keep HR.out)).out).mono ?_
        rintro e x ⟨rfl, hb⟩
        have HB := hide (HB.out.keep hb)
        have HC := hide (HC.out.keep hb)
        have HR := hide (HR.out.trans (hb.mono HR.out.size))
        clear hb c0 c1 c2 c3 c4 c5 c6 c7 c8 c9 e0 e1 e2 e3 e4 e5 e6 e7 e8 e9
        obtain ⟨_, c0, c1, c2, c3, c4, c5, c6, c7, c8, c9⟩ := HB.out
        obtain ⟨_, e0, e1, e2, e3, e4, e5, e6, e7, e8, e9⟩ := HC.out
        go_wp2_with fail
        refine ((CK _ (S.out.keep HR.out)).out).mono ?_
        rintro e x2 ⟨rfl, hb⟩
        have HB := hide (HB.out.keep hb)
        have HC := hide (HC.out.keep hb)
        have HR := hide (HR.out.trans (hb.mono HR.out.size))
        clear hb c0 c1 c2 c3 c4 c5 c6 c7 c8 c9 e0 e1 e2 e3 e4 e5 e6 e7 e8 e9
        obtain ⟨_, c0, c1, c2, c3, c4, c5, c6, c7, c8, c9⟩ := HB.out
        obtain ⟨_, e0, e1, e2, e3, e4, e5, e6, e7, e8, e9⟩ := HC.out
        rw [G0.out] at e1
        rw [G1.out] at e2
        rw [G2.out] at e3
        rw [G3.out] at e4
        go_wp2_with fail
        go_ret2
        exact ⟨rfl, HR.out⟩
      obtain e1 : neE t u = 0 := by rw [hE.out, if_neg (by rw [hz]; decide), if_neg (by rw [hy]; decide), if_pos ⟨g0, g1, g2, g3, g4⟩]
      obtain e2 : neV t u = reV t - u.c := by rw [hV.out, e1, if_pos rfl]
      rw [e1, e2]
      clear e1 e2 hE hV hz hy
      generalize reV t = V at *
      have G0 := hide g0
      clear g0
      have G1 := hide g1
      clear g1
      have G2 := hide g2
      clear g2
      have G3 := hide g3
      clear g3
      have G4 := hide g4
      clear g4
      go_enter Tryd.func19, Tryd.ntmps19
      obtain ⟨_, c0, c1, c2, c3, c4, c5, c6, c7, c8, c9⟩ := HB.out
      obtain ⟨_, e0, e1, e2, e3, e4, e5, e6, e7, e8, e9⟩ := HC.out
      go_wp2_with fail
      generalize (w.alloc (Obj.cells #[.string t.rf, .string t.se, .string t.bu, .string t.sn, .int .i64 t.q, .int .i64 t.c, .int .i64 t.n, .int .i64 t.d, .int .i64 t.op, .int .i64 t.cl] 28)).alloc (Obj.cells #[.string u.rf, .string u.se, .string u.bu, .string u.sn, .int .i64 u.q, .int .i64 u.c, .int .i64 u.n, .int .i64 u.d, .int .i64 u.op, .int .i64 u.cl] 28) = X at *
      refine ((RP _ (S.out.keep HR.out)).out).mono ?_
      rintro e x ⟨rfl, hb⟩
      have HB := hide (HB.out.keep hb)
      have HC := hide (HC.out.keep hb)
      have HR := hide (HR.out.trans (hb.mono HR.out.size))
      clear hb c0 c1 c2 c3 c4 c5 c6 c7 c8 c9 e0 e1 e2 e3 e4 e5 e6 e7 e8 e9
      obtain ⟨_, c0, c1, c2, c3, c4, c5, c6, c7, c8, c9⟩ := HB.out
      obtain ⟨_, e0, e1, e2, e3, e4, e5, e6, e7, e8, e9⟩ := HC.out
      go_wp2_with fail
      refine ((CK _ (S.out.keep HR.out)).out).mono ?_
      rintro e x2 ⟨rfl, hb⟩
      have HB := hide (HB.out.keep hb)
      have HC := hide (HC.out.keep hb)
      have HR := hide (HR.out.trans (hb.mono HR.out.size))
      clear hb c0 c1 c2 c3 c4 c5 c6 c7 c8 c9 e0 e1 e2 e3 e4 e5 e6 e7 e8 e9
      obtain ⟨_, c0, c1, c2, c3, c4, c5, c6, c7, c8, c9⟩ := HB.out
      obtain ⟨_, e0, e1, e2, e3, e4, e5, e6, e7, e8, e9⟩ := HC.out
      rw [G0.out] at e1
      rw [G1.out] at e2
      rw [G2.out] at e3
      rw [G3.out] at e4
      rw [G4.out] at e8
      go_wp2_with fail
      go_ret2
      exact ⟨rfl, HR.out⟩
    · obtain e1 : neE t u = agE u := by rw [hE.out, if_neg (by rw [hz]; decide), if_pos hy]
      obtain e2 : neV t u = 0 := by rw [hV.out, e1, if_neg hy]
      rw [e1, e2]
      have hz' : (agE u != 0) = true := by simpa using hy
      generalize agE u = E at *
      generalize reV t = V at *
      clear e1 e2 hE hV hz hy
      go_enter Tryd.func19, Tryd.ntmps19
      obtain ⟨_, c0, c1, c2, c3, c4, c5, c6, c7, c8, c9⟩ := HB.out
      obtain ⟨_, e0, e1, e2, e3, e4, e5, e6, e7, e8, e9⟩ := HC.out
      go_wp2_with fail
      generalize (w.alloc (Obj.cells #[.string t.rf, .string t.se, .string t.bu, .string t.sn, .int .i64 t.q, .int .i64 t.c, .int .i64 t.n, .int .i64 t.d, .int .i64 t.op, .int .i64 t.cl] 28)).alloc (Obj.cells #[.string u.rf, .string u.se, .string u.bu, .string u.sn, .int .i64 u.q, .int .i64 u.c, .int .i64 u.n, .int .i64 u.d, .int .i64 u.op, .int .i64 u.cl] 28) = X at *
      refine ((RP _ (S.out.keep HR.out)).out).mono ?_
      rintro e x ⟨rfl, hb⟩
      have HB := hide (HB.out.keep hb)
      have HC := hide (HC.out.keep hb)
      have HR := hide (HR.out.trans (hb.mono HR.out.size))
      clear hb c0 c1 c2 c3 c4 c5 c6 c7 c8 c9 e0 e1 e2 e3 e4 e5 e6 e7 e8 e9
      obtain ⟨_, c0, c1, c2, c3, c4, c5, c6, c7, c8, c9⟩ := HB.out
      obtain ⟨_, e0, e1, e2, e3, e4, e5, e6, e7, e8, e9⟩ := HC.out
      go_wp2_with fail
      refine ((CK _ (S.out.keep HR.out)).out).mono ?_
      rintro e x2 ⟨rfl, hb⟩
      have HB := hide (HB.out.keep hb)
      have HC := hide (HC.out.keep hb)
      have HR := hide (HR.out.trans (hb.mono HR.out.size))
      clear hb c0 c1 c2 c3 c4 c5 c6 c7 c8 c9 e0 e1 e2 e3 e4 e5 e6 e7 e8 e9
      obtain ⟨_, c0, c1, c2, c3, c4, c5, c6, c7, c8, c9⟩ := HB.out
      obtain ⟨_, e0, e1, e2, e3, e4, e5, e6, e7, e8, e9⟩ := HC.out
      go_wp2_with fail
      go_ret2
      exact ⟨rfl, HR.out⟩
  · obtain e1 : neE t u = agE t := by rw [hE.out, if_pos hz]
    obtain e2 : neV t u = 0 := by rw [hV.out, e1, if_neg hz]
    rw [e1, e2]
    have hz' : (agE t != 0) = true := by simpa using hz
    generalize agE t = E at *
    generalize reV t = V at *
    clear e1 e2 hE hV hz CK
    go_enter Tryd.func19, Tryd.ntmps19
    obtain ⟨_, c0, c1, c2, c3, c4, c5, c6, c7, c8, c9⟩ := HB.out
    obtain ⟨_, e0, e1, e2, e3, e4, e5, e6, e7, e8, e9⟩ := HC.out
    go_wp2_with fail
    generalize (w.alloc (Obj.cells #[.string t.rf, .string t.se, .string t.bu, .string t.sn, .int .i64 t.q, .int .i64 t.c, .int .i64 t.n, .int .i64 t.d, .int .i64 t.op, .int .i64 t.cl] 28)).alloc (Obj.cells #[.string u.rf, .string u.se, .string u.bu, .string u.sn, .int .i64 u.q, .int .i64 u.c, .int .i64 u.n, .int .i64 u.d, .int .i64 u.op, .int .i64 u.cl] 28) = X at *
    refine ((RP _ (S.out.keep HR.out)).out).mono ?_
    rintro e x ⟨rfl, hb⟩
    have HB := hide (HB.out.keep hb)
    have HC := hide (HC.out.keep hb)
    have HR := hide (HR.out.trans (hb.mono HR.out.size))
    clear hb c0 c1 c2 c3 c4 c5 c6 c7 c8 c9 e0 e1 e2 e3 e4 e5 e6 e7 e8 e9
    obtain ⟨_, c0, c1, c2, c3, c4, c5, c6, c7, c8, c9⟩ := HB.out
    obtain ⟨_, e0, e1, e2, e3, e4, e5, e6, e7, e8, e9⟩ := HC.out
    go_wp2_with fail
    go_ret2
    exact ⟨rfl, HR.out⟩

end Go.Proofs.YtjjaemobgfconaaDoor
