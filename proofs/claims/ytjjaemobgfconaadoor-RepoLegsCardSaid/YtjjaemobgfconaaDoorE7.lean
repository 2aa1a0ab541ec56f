/-
  Interest and Repayment.
-/
import Derived.Test.YtjjaemobgfconaaDoorE6
import Derived.WalkKit
import Derived.Deep.QuietTactic
import Derived.BigQuiet
import Derived.Laws.EntriesVeiled
import Derived.Lib.MinMax
import Derived.Deep.Light
namespace Go.Proofs.YtjjaemobgfconaaDoor
open Go.RowKit
set_option linter.unusedVariables false
set_option linter.unusedSimpArgs false
set_option linter.unnecessarySimpa false

/-- What Interest and Repayment answer. -/
def inE (t : Ag) (day : Int) : Int := if agE t ≠ 0 then agE t else if day < t.op ∨ t.cl < day then 28 else 0
def inV (t : Ag) (day : Int) : Int := if inE t day ≠ 0 then 0 else iV t (day - t.op)
def reV (t : Ag) : Int := if agE t ≠ 0 then 0 else t.c + iV t (t.cl - t.op)
theorem ag_ok {t : Ag} (h : agE t = 0) : nmE t = 0 ∧ tmE t = 0 ∧ daE t = 0 ∧ rpE t = 0 := by
  unfold agE at h
  split at h
  · rename_i h1; exact absurd h h1
  · rename_i h1
    split at h
    · rename_i h2; exact absurd h h2
    · rename_i h2
      split at h
      · rename_i h3; exact absurd h h3
      · rename_i h3
        exact ⟨by simpa using h1, by simpa using h2, by simpa using h3, h⟩
theorem iV_bd {t : Ag} (hF : Fit t) {k : Int} (k1 : 0 ≤ k) (k2 : k ≤ 400) : 0 ≤ iV t k ∧ iV t k ≤ 1200000000000001 := by
  obtain ⟨q1, q2, _, _, _⟩ := hF.bds k1 k2
  have u1 : 0 ≤ iU t k ∧ iU t k ≤ 1 := by unfold iU; split <;> omega
  unfold iV; omega
set_option maxHeartbeats 4000000 in
set_option maxRecDepth 20000 in
theorem interest_any (t : Ag) (day : Int) (w : World) (S : Shp w) (h : t.Ok) (w1 : -9223372036854775808 ≤ day) (w2 : day ≤ 9223372036854775807) : Calls Tryd.prog 9 #[.agg #[.string t.rf, .string t.se, .string t.bu, .string t.sn, .int .i64 t.q, .int .i64 t.c, .int .i64 t.n, .int .i64 t.d, .int .i64 t.op, .int .i64 t.cl], .int .i64 day] w fun e w' => e = .returned (.tuple #[.int .i64 (inV t day), .int .i64 (inE t day)]) ∧ Below w.heap.size w w' := by
  have S := hide S
  have CK := fun w S => hide (acheck_any t w S h)
  clear h
  have HR := hide (one_alloc w (Obj.cells #[.string t.rf, .string t.se, .string t.bu, .string t.sn, .int .i64 t.q, .int .i64 t.c, .int .i64 t.n, .int .i64 t.d, .int .i64 t.op, .int .i64 t.cl] 28))
  have HB := hide (RB.new t w 28)
  by_cases hz : agE t = 0
  · obtain ⟨z0, z1, z2, z3⟩ := ag_ok hz
    have hd := day_of z2
    have IA := fun (h1 : t.op ≤ day) (h2 : day ≤ t.cl) w => hide (int_any t day _ w (fit_of z1) rfl (by omega) (by omega))
    rw [hz] at CK
    clear z0 z1 z2 z3 hd
    by_cases g1 : day < t.op
    · have e1 : inE t day = 28 := by unfold inE; rw [if_neg (by rw [hz]; decide), if_pos (.inl g1)]
      have e2 : inV t day = 0 := by unfold inV; rw [if_pos (by rw [e1]; decide)]
      rw [e1, e2]
      clear e1 e2 IA hz
      go_enter Tryd.func9, Tryd.ntmps9
      obtain ⟨_, c0, c1, c2, c3, c4, c5, c6, c7, c8, c9⟩ := HB.out
      go_wp2_with fail
      refine ((CK _ (S.out.keep HR.out)).out).mono ?_
      rintro e x ⟨rfl, hb⟩
      have HB := hide (HB.out.keep hb)
      have HR := hide (HR.out.trans (hb.mono HR.out.size))
      clear hb c0 c1 c2 c3 c4 c5 c6 c7 c8 c9
      obtain ⟨_, c0, c1, c2, c3, c4, c5, c6, c7, c8, c9⟩ := HB.out
      go_wp2_with fail
      go_ret2
      exact ⟨rfl, HR.out⟩
    · by_cases g2 : t.cl < day
      · have e1 : inE t day = 28 := by unfold inE; rw [if_neg (by rw [hz]; decide), if_pos (.inr g2)]
        have e2 : inV t day = 0 := by unfold inV; rw [if_pos (by rw [e1]; decide)]
        rw [e1, e2]
        clear e1 e2 IA hz
        go_enter Tryd.func9, Tryd.ntmps9
        obtain ⟨_, c0, c1, c2, c3, c4, c5, c6, c7, c8, c9⟩ := HB.out
        go_wp2_with fail
        refine ((CK _ (S.out.keep HR.out)).out).mono ?_
        rintro e x ⟨rfl, hb⟩
        have HB := hide (HB.out.keep hb)
        have HR := hide (HR.out.trans (hb.mono HR.out.size))
        clear hb c0 c1 c2 c3 c4 c5 c6 c7 c8 c9
        obtain ⟨_, c0, c1, c2, c3, c4, c5, c6, c7, c8, c9⟩ := HB.out
        go_wp2_with fail
        go_ret2
        exact ⟨rfl, HR.out⟩
      · have e1 : inE t day = 0 := by unfold inE; rw [if_neg (by rw [hz]; decide), if_neg (by rintro (h | h); exact g1 h; exact g2 h)]
        have e2 : inV t day = iV t (day - t.op) := by unfold inV; rw [if_neg (by rw [e1]; decide)]
        rw [e1, e2]
        have IA := IA (by omega) (by omega)
        generalize iV t (day - t.op) = V at *
        clear e1 e2 hz
        go_enter Tryd.func9, Tryd.ntmps9
        obtain ⟨_, c0, c1, c2, c3, c4, c5, c6, c7, c8, c9⟩ := HB.out
        go_wp2_with fail
        refine ((CK _ (S.out.keep HR.out)).out).mono ?_
        rintro e x ⟨rfl, hb⟩
        have HB := hide (HB.out.keep hb)
        have HR := hide (HR.out.trans (hb.mono HR.out.size))
        clear hb c0 c1 c2 c3 c4 c5 c6 c7 c8 c9
        obtain ⟨_, c0, c1, c2, c3, c4, c5, c6, c7, c8, c9⟩ := HB.out
        go_wp2_with fail
        refine ((IA _).out).mono ?_
        rintro e y ⟨rfl, hb⟩
        have HR := hide (HR.out.trans (hb.mono HR.out.size))
        clear hb
        go_wp2_with fail
        go_ret2
        exact ⟨rfl, HR.out⟩
  · have e1 : inE t day = agE t := by unfold inE; rw [if_pos hz]
    have e2 : inV t day = 0 := by unfold inV; rw [if_pos (by rw [e1]; exact hz)]
    rw [e1, e2]
    have hz' : (agE t != 0) = true := by simpa using hz
    generalize agE t = E at *
    clear e1 e2 hz
    go_enter Tryd.func9, Tryd.ntmps9
    obtain ⟨_, c0, c1, c2, c3, c4, c5, c6, c7, c8, c9⟩ := HB.out
    go_wp2_with fail
    refine ((CK _ (S.out.keep HR.out)).out).mono ?_
    rintro e x ⟨rfl, hb⟩
    have HB := hide (HB.out.keep hb)
    have HR := hide (HR.out.trans (hb.mono HR.out.size))
    clear hb c0 c1 c2 c3 c4 c5 c6 c7 c8 c9
    obtain ⟨_, c0, c1, c2, c3, c4, c5, c6, c7, c8, c9⟩ := HB.out
    go_wp2_with fail
    go_ret2
    exact ⟨rfl, HR.out⟩
set_option maxHeartbeats 4000000 in
set_option maxRecDepth 20000 in
theorem repay_any (t : Ag) (w : World) (S : Shp w) (h : t.Ok) : Calls Tryd.prog 11 #[.agg #[.string t.rf, .string t.se, .string t.bu, .string t.sn, .int .i64 t.q, .int .i64 t.c, .int .i64 t.n, .int .i64 t.d, .int .i64 t.op, .int .i64 t.cl]] w fun e w' => e = .returned (.tuple #[.int .i64 (reV t), .int .i64 (agE t)]) ∧ Below w.heap.size w w' := by
  have S := hide S
  have CK := fun w S => hide (acheck_any t w S h)
  clear h
  have HR := hide (one_alloc w (Obj.cells #[.string t.rf, .string t.se, .string t.bu, .string t.sn, .int .i64 t.q, .int .i64 t.c, .int .i64 t.n, .int .i64 t.d, .int .i64 t.op, .int .i64 t.cl] 28))
  have HB := hide (RB.new t w 28)
  by_cases hz : agE t = 0
  · obtain ⟨z0, z1, z2, z3⟩ := ag_ok hz
    have hd := day_of z2
    have hF := fit_of z1
    have IA := fun w => hide (int_any t t.cl _ w hF rfl (by omega) (by omega))
    have e2 : reV t = t.c + iV t (t.cl - t.op) := by unfold reV; rw [if_neg (by rw [hz]; decide)]
    rw [e2]
    rw [hz] at CK ⊢
    obtain ⟨v1, v2⟩ := iV_bd hF (k := t.cl - t.op) (by omega) (by omega)
    have c1 := hF.c1
    have c2 := hF.c2
    generalize iV t (t.cl - t.op) = V at *
    clear z0 z1 z2 z3 hd hF e2 hz
    go_enter Tryd.func11, Tryd.ntmps11
    obtain ⟨_, c0, c1, c2, c3, c4, c5, c6, c7, c8, c9⟩ := HB.out
    go_wp2_with fail
    refine ((CK _ (S.out.keep HR.out)).out).mono ?_
    rintro e x ⟨rfl, hb⟩
    have HB := hide (HB.out.keep hb)
    have HR := hide (HR.out.trans (hb.mono HR.out.size))
    clear hb c0 c1 c2 c3 c4 c5 c6 c7 c8 c9
    go_wp2_with fail
    have k0 : ∀ z : Sub x, z.val.cell? ⟨w.heap.size, 0, none⟩ = some (.string t.rf) := fun z => (HB.out.keep z.below).c0
    have k1 : ∀ z : Sub x, z.val.cell? ⟨w.heap.size, 1, none⟩ = some (.string t.se) := fun z => (HB.out.keep z.below).c1
    have k2 : ∀ z : Sub x, z.val.cell? ⟨w.heap.size, 2, none⟩ = some (.string t.bu) := fun z => (HB.out.keep z.below).c2
    have k3 : ∀ z : Sub x, z.val.cell? ⟨w.heap.size, 3, none⟩ = some (.string t.sn) := fun z => (HB.out.keep z.below).c3
    have k4 : ∀ z : Sub x, z.val.cell? ⟨w.heap.size, 4, none⟩ = some (.int .i64 t.q) := fun z => (HB.out.keep z.below).c4
    have k5 : ∀ z : Sub x, z.val.cell? ⟨w.heap.size, 5, none⟩ = some (.int .i64 t.c) := fun z => (HB.out.keep z.below).c5
    have k6 : ∀ z : Sub x, z.val.cell? ⟨w.heap.size, 6, none⟩ = some (.int .i64 t.n) := fun z => (HB.out.keep z.below).c6
    have k7 : ∀ z : Sub x, z.val.cell? ⟨w.heap.size, 7, none⟩ = some (.int .i64 t.d) := fun z => (HB.out.keep z.below).c7
    have k8 : ∀ z : Sub x, z.val.cell? ⟨w.heap.size, 8, none⟩ = some (.int .i64 t.op) := fun z => (HB.out.keep z.below).c8
    have k9 : ∀ z : Sub x, z.val.cell? ⟨w.heap.size, 9, none⟩ = some (.int .i64 t.cl) := fun z => (HB.out.keep z.below).c9
    refine wp_region_sub (w0 := x) (by kernel_rfl) (by kernel_rfl) (Below.refl _ _).drew ?_
    repeat (first | go_big_quiet_step ((go_at_call 28; exact sub_of _ (IA _).out)) | quiet_step ((go_at_call 28; exact sub_of _ (IA _).out)))
    refine wpQuiet_nil ?_
    rintro _ ⟨y, rfl⟩
    clear k0 k1 k2 k3 k4 k5 k6 k7 k8 k9
    go_wp2_with fail
    go_ret2
    exact ⟨rfl, HR.out.trans (y.below.mono HR.out.size)⟩
  · have e2 : reV t = 0 := by unfold reV; rw [if_pos hz]
    rw [e2]
    have hz' : (agE t != 0) = true := by simpa using hz
    generalize agE t = E at *
    clear e2 hz
    go_enter Tryd.func11, Tryd.ntmps11
    obtain ⟨_, c0, c1, c2, c3, c4, c5, c6, c7, c8, c9⟩ := HB.out
    go_wp2_with fail
    refine ((CK _ (S.out.keep HR.out)).out).mono ?_
    rintro e x ⟨rfl, hb⟩
    have HB := hide (HB.out.keep hb)
    have HR := hide (HR.out.trans (hb.mono HR.out.size))
    clear hb c0 c1 c2 c3 c4 c5 c6 c7 c8 c9
    obtain ⟨_, c0, c1, c2, c3, c4, c5, c6, c7, c8, c9⟩ := HB.out
    go_wp2_with fail
    go_ret2
    exact ⟨rfl, HR.out⟩

end Go.Proofs.YtjjaemobgfconaaDoor
