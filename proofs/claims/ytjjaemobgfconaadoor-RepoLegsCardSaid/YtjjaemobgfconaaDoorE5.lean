/-
  Terms, days, the repayment.
-/
import Derived.Test.YtjjaemobgfconaaDoorE4
import Derived.Test.YtjjaemobgfconaaDoorE2
import Derived.WalkKit
import Derived.Deep.QuietTactic
import Derived.BigQuiet
import Derived.Laws.EntriesVeiled
import Derived.Lib.MinMax
import Derived.Deep.Light
namespace Go.Proofs.YtjjaemobgfconaaDoor
open Go.RowKit
set_option linter.unusedVariables false
set_option linter.unusedSimpArgs false
set_option linter.unnecessarySimpa false

theorem fit_of {t : Ag} (h : tmE t = 0) : Fit t := by
  unfold tmE at h
  split at h
  · cases h
  · rename_i h1
    split at h
    · cases h
    · rename_i h2
      have h3 : ckE t.n t.d = 0 := by
        refine Classical.byContradiction fun h => h2 (.inl h)
      have h4 : 1 ≤ t.d ∧ t.d ≤ 1000000000 := by
        unfold ckE at h3
        split at h3
        · cases h3
        · rename_i h5
          simp [rgB] at h5
          omega
      exact ⟨by omega, by omega, by omega, by omega, h4.1, h4.2⟩
theorem day_of {t : Ag} (h : daE t = 0) : 0 ≤ t.op ∧ t.op ≤ 73048 ∧ 0 ≤ t.cl ∧ t.cl ≤ 73048 ∧ 1 ≤ t.cl - t.op ∧ t.cl - t.op ≤ 400 := by
  unfold daE at h
  split at h
  · cases h
  · rename_i h1
    split at h
    · cases h
    · simp [dyB] at h1
      omega
set_option maxHeartbeats 4000000 in
set_option maxRecDepth 20000 in
theorem terms_any (t : Ag) (w : World) (h : t.Ok) : Calls Tryd.prog 31 #[.agg #[.string t.rf, .string t.se, .string t.bu, .string t.sn, .int .i64 t.q, .int .i64 t.c, .int .i64 t.n, .int .i64 t.d, .int .i64 t.op, .int .i64 t.cl]] w fun e w' => e = .returned (.int .i64 (tmE t)) ∧ Below w.heap.size w w' := by
  have CK := fun w => hide (check_any t.n t.d w h.n.1 h.n.2 h.d.1 h.d.2)
  clear h
  have HR := hide (one_alloc w (Obj.cells #[.string t.rf, .string t.se, .string t.bu, .string t.sn, .int .i64 t.q, .int .i64 t.c, .int .i64 t.n, .int .i64 t.d, .int .i64 t.op, .int .i64 t.cl] 28))
  have HB := hide (RB.new t w 28)
  by_cases g1 : t.q < 1
  · skip
    have e : tmE t = 2 := by unfold tmE; rw [if_pos (by omega)]
    rw [e]
    clear e CK
    go_enter Tryd.func31, Tryd.ntmps31
    obtain ⟨_, c0, c1, c2, c3, c4, c5, c6, c7, c8, c9⟩ := HB.out
    go_wp2_with fail
    go_ret
    exact ⟨rfl, HR.out⟩
  · by_cases g2 : 1000000000000000 < t.q
    · skip
      have e : tmE t = 2 := by unfold tmE; rw [if_pos (by omega)]
      rw [e]
      clear e CK
      go_enter Tryd.func31, Tryd.ntmps31
      obtain ⟨_, c0, c1, c2, c3, c4, c5, c6, c7, c8, c9⟩ := HB.out
      go_wp2_with fail
      go_ret
      exact ⟨rfl, HR.out⟩
    · by_cases g3 : t.c < 1
      · skip
        have e : tmE t = 2 := by unfold tmE; rw [if_pos (by omega)]
        rw [e]
        clear e CK
        go_enter Tryd.func31, Tryd.ntmps31
        obtain ⟨_, c0, c1, c2, c3, c4, c5, c6, c7, c8, c9⟩ := HB.out
        go_wp2_with fail
        go_ret
        exact ⟨rfl, HR.out⟩
      · by_cases g4 : 1000000000000000 < t.c
        · skip
          have e : tmE t = 2 := by unfold tmE; rw [if_pos (by omega)]
          rw [e]
          clear e CK
          go_enter Tryd.func31, Tryd.ntmps31
          obtain ⟨_, c0, c1, c2, c3, c4, c5, c6, c7, c8, c9⟩ := HB.out
          go_wp2_with fail
          go_ret
          exact ⟨rfl, HR.out⟩
        · skip
          have HX := hide (show ¬ (t.q < 1 ∨ 1000000000000000 < t.q ∨ t.c < 1 ∨ 1000000000000000 < t.c) by omega)
          have hE := hide (show tmE t = if ckE t.n t.d ≠ 0 ∨ t.n < 0 ∨ t.d < t.n then 2 else 0 by unfold tmE; rw [if_neg HX.out])
          rw [hE.out]
          generalize ckE t.n t.d = X at *
          clear hE HX
          by_cases h1 : X = 0
          · subst h1
            by_cases h2 : t.n < 0
            · rw [if_pos (.inr (.inl h2))]
              go_enter Tryd.func31, Tryd.ntmps31
              obtain ⟨_, c0, c1, c2, c3, c4, c5, c6, c7, c8, c9⟩ := HB.out
              go_wp2_with fail
              refine ((CK _).out).mono ?_
              rintro e x ⟨rfl, hb⟩
              have HB := hide (HB.out.keep hb)
              have HR := hide (HR.out.trans (hb.mono HR.out.size))
              clear hb c0 c1 c2 c3 c4 c5 c6 c7 c8 c9
              obtain ⟨_, c0, c1, c2, c3, c4, c5, c6, c7, c8, c9⟩ := HB.out
              go_wp2_with fail
              go_ret
              exact ⟨rfl, HR.out⟩
            · by_cases h3 : t.d < t.n
              · rw [if_pos (.inr (.inr h3))]
                go_enter Tryd.func31, Tryd.ntmps31
                obtain ⟨_, c0, c1, c2, c3, c4, c5, c6, c7, c8, c9⟩ := HB.out
                go_wp2_with fail
                refine ((CK _).out).mono ?_
                rintro e x ⟨rfl, hb⟩
                have HB := hide (HB.out.keep hb)
                have HR := hide (HR.out.trans (hb.mono HR.out.size))
                clear hb c0 c1 c2 c3 c4 c5 c6 c7 c8 c9
                obtain ⟨_, c0, c1, c2, c3, c4, c5, c6, c7, c8, c9⟩ := HB.out
                go_wp2_with fail
                go_ret
                exact ⟨rfl, HR.out⟩
              · rw [if_neg (by rintro (h | h | h); exact h rfl; exact h2 h; exact h3 h)]
                go_enter Tryd.func31, Tryd.ntmps31
                obtain ⟨_, c0, c1, c2, c3, c4, c5, c6, c7, c8, c9⟩ := HB.out
                go_wp2_with fail
                refine ((CK _).out).mono ?_
                rintro e x ⟨rfl, hb⟩
                have HB := hide (HB.out.keep hb)
                have HR := hide (HR.out.trans (hb.mono HR.out.size))
                clear hb c0 c1 c2 c3 c4 c5 c6 c7 c8 c9
                obtain ⟨_, c0, c1, c2, c3, c4, c5, c6, c7, c8, c9⟩ := HB.out
                go_wp2_with fail
                go_ret
                exact ⟨rfl, HR.out⟩
          · have h1' : (X != 0) = true := by simpa using h1
            rw [if_pos (.inl h1)]
            clear h1
            go_enter Tryd.func31, Tryd.ntmps31
            obtain ⟨_, c0, c1, c2, c3, c4, c5, c6, c7, c8, c9⟩ := HB.out
            go_wp2_with fail
            refine ((CK _).out).mono ?_
            rintro e x ⟨rfl, hb⟩
            have HB := hide (HB.out.keep hb)
            have HR := hide (HR.out.trans (hb.mono HR.out.size))
            clear hb c0 c1 c2 c3 c4 c5 c6 c7 c8 c9
            obtain ⟨_, c0, c1, c2, c3, c4, c5, c6, c7, c8, c9⟩ := HB.out
            go_wp2_with fail
            go_ret
            exact ⟨rfl, HR.out⟩
set_option maxHeartbeats 4000000 in
set_option maxRecDepth 20000 in
theorem days_any (t : Ag) (w : World) : Calls Tryd.prog 32 #[.agg #[.string t.rf, .string t.se, .string t.bu, .string t.sn, .int .i64 t.q, .int .i64 t.c, .int .i64 t.n, .int .i64 t.d, .int .i64 t.op, .int .i64 t.cl]] w fun e w' => e = .returned (.int .i64 (daE t)) ∧ Below w.heap.size w w' := by
  have D1 := fun w => hide (dy_any t.op w)
  have D2 := fun w => hide (dy_any t.cl w)
  have HR := hide (one_alloc w (Obj.cells #[.string t.rf, .string t.se, .string t.bu, .string t.sn, .int .i64 t.q, .int .i64 t.c, .int .i64 t.n, .int .i64 t.d, .int .i64 t.op, .int .i64 t.cl] 28))
  obtain ⟨_, c0, c1, c2, c3, c4, c5, c6, c7, c8, c9⟩ := RB.new t w 28
  unfold daE
  by_cases h1 : dyB t.op = true
  · rw [h1] at D1
    by_cases h2 : dyB t.cl = true
    · rw [h2] at D2
      rw [if_neg (by rw [h1, h2]; decide)]
      have b1 : 0 ≤ t.op ∧ t.op ≤ 73048 := by simpa [dyB] using h1
      have b2 : 0 ≤ t.cl ∧ t.cl ≤ 73048 := by simpa [dyB] using h2
      obtain ⟨b1, b3⟩ := b1
      obtain ⟨b2, b4⟩ := b2
      clear h1 h2
      obtain ⟨z, hz⟩ : ∃ z, t.cl - t.op = z := ⟨_, rfl⟩
      have hzb : -73048 ≤ z ∧ z ≤ 73048 := by omega
      obtain ⟨z1, z2⟩ := hzb
      rw [hz]
      by_cases h3 : z < 1
      · rw [if_pos (.inl h3)]
        go_enter Tryd.func32, Tryd.ntmps32
        go_wp2_with fail
        refine ((D1 _).out).mono ?_
        rintro e x ⟨rfl, rfl⟩
        go_wp2_with fail
        refine ((D2 _).out).mono ?_
        rintro e x ⟨rfl, rfl⟩
        go_wp2_with fail
        go_ret
        exact ⟨rfl, HR.out⟩
      · by_cases h4 : 400 < z
        · rw [if_pos (.inr h4)]
          go_enter Tryd.func32, Tryd.ntmps32
          go_wp2_with fail
          refine ((D1 _).out).mono ?_
          rintro e x ⟨rfl, rfl⟩
          go_wp2_with fail
          refine ((D2 _).out).mono ?_
          rintro e x ⟨rfl, rfl⟩
          go_wp2_with fail
          go_ret
          exact ⟨rfl, HR.out⟩
        · rw [if_neg (by rintro (h | h); exact h3 h; exact h4 h)]
          go_enter Tryd.func32, Tryd.ntmps32
          go_wp2_with fail
          refine ((D1 _).out).mono ?_
          rintro e x ⟨rfl, rfl⟩
          go_wp2_with fail
          refine ((D2 _).out).mono ?_
          rintro e x ⟨rfl, rfl⟩
          go_wp2_with fail
          go_ret
          exact ⟨rfl, HR.out⟩
    · rw [if_pos (.inr (by simpa using h2))]
      rw [show dyB t.cl = false by simpa using h2] at D2
      clear h1 h2
      go_enter Tryd.func32, Tryd.ntmps32
      go_wp2_with fail
      refine ((D1 _).out).mono ?_
      rintro e x ⟨rfl, rfl⟩
      go_wp2_with fail
      refine ((D2 _).out).mono ?_
      rintro e x ⟨rfl, rfl⟩
      go_wp2_with fail
      go_ret
      exact ⟨rfl, HR.out⟩
  · rw [if_pos (.inl (by simpa using h1))]
    rw [show dyB t.op = false by simpa using h1] at D1
    clear h1
    go_enter Tryd.func32, Tryd.ntmps32
    go_wp2_with fail
    refine ((D1 _).out).mono ?_
    rintro e x ⟨rfl, rfl⟩
    go_wp2_with fail
    go_ret
    exact ⟨rfl, HR.out⟩
/-- What is left to check: the repayment. -/
def rpE (t : Ag) : Int := if 1000000000000000 < t.c + iV t (t.cl - t.op) then 12 else 0
set_option maxHeartbeats 4000000 in
set_option maxRecDepth 20000 in
theorem rep_any (t : Ag) (w : World) (hF : Fit t) (hd : daE t = 0) : Calls Tryd.prog 33 #[.agg #[.string t.rf, .string t.se, .string t.bu, .string t.sn, .int .i64 t.q, .int .i64 t.c, .int .i64 t.n, .int .i64 t.d, .int .i64 t.op, .int .i64 t.cl]] w fun e w' => e = .returned (.int .i64 (rpE t)) ∧ Below w.heap.size w w' := by
  obtain ⟨o1, o2, l1, l2, k1, k2⟩ := day_of hd
  obtain ⟨q1, q2, _, _, _⟩ := hF.bds (k := t.cl - t.op) (by omega) k2
  have u1 : 0 ≤ iU t (t.cl - t.op) ∧ iU t (t.cl - t.op) ≤ 1 := by unfold iU; split <;> omega
  have IA := fun w => hide (int_any t t.cl _ w hF rfl (by omega) k2)
  have c1 := hF.c1
  have c2 := hF.c2
  unfold rpE
  have v1 : 0 ≤ iV t (t.cl - t.op) := by unfold iV; omega
  have v2 : iV t (t.cl - t.op) ≤ 1200000000000001 := by unfold iV; omega
  generalize iV t (t.cl - t.op) = V at *
  clear hd hF q1 q2 u1 o1 o2 l1 l2 k1 k2
  have HR := hide (one_alloc w (Obj.cells #[.string t.rf, .string t.se, .string t.bu, .string t.sn, .int .i64 t.q, .int .i64 t.c, .int .i64 t.n, .int .i64 t.d, .int .i64 t.op, .int .i64 t.cl] 28))
  have HB := hide (RB.new t w 28)
  by_cases h : 1000000000000000 < t.c + V
  · rw [if_pos h]
    go_enter Tryd.func33, Tryd.ntmps33
    go_wp2_with fail
    generalize w.alloc (Obj.cells #[.string t.rf, .string t.se, .string t.bu, .string t.sn, .int .i64 t.q, .int .i64 t.c, .int .i64 t.n, .int .i64 t.d, .int .i64 t.op, .int .i64 t.cl] 28) = X at *
    have k0 : ∀ z : Sub X, z.val.cell? ⟨w.heap.size, 0, none⟩ = some (.string t.rf) := fun z => (HB.out.keep z.below).c0
    have k1 : ∀ z : Sub X, z.val.cell? ⟨w.heap.size, 1, none⟩ = some (.string t.se) := fun z => (HB.out.keep z.below).c1
    have k2 : ∀ z : Sub X, z.val.cell? ⟨w.heap.size, 2, none⟩ = some (.string t.bu) := fun z => (HB.out.keep z.below).c2
    have k3 : ∀ z : Sub X, z.val.cell? ⟨w.heap.size, 3, none⟩ = some (.string t.sn) := fun z => (HB.out.keep z.below).c3
    have k4 : ∀ z : Sub X, z.val.cell? ⟨w.heap.size, 4, none⟩ = some (.int .i64 t.q) := fun z => (HB.out.keep z.below).c4
    have k5 : ∀ z : Sub X, z.val.cell? ⟨w.heap.size, 5, none⟩ = some (.int .i64 t.c) := fun z => (HB.out.keep z.below).c5
    have k6 : ∀ z : Sub X, z.val.cell? ⟨w.heap.size, 6, none⟩ = some (.int .i64 t.n) := fun z => (HB.out.keep z.below).c6
    have k7 : ∀ z : Sub X, z.val.cell? ⟨w.heap.size, 7, none⟩ = some (.int .i64 t.d) := fun z => (HB.out.keep z.below).c7
    have k8 : ∀ z : Sub X, z.val.cell? ⟨w.heap.size, 8, none⟩ = some (.int .i64 t.op) := fun z => (HB.out.keep z.below).c8
    have k9 : ∀ z : Sub X, z.val.cell? ⟨w.heap.size, 9, none⟩ = some (.int .i64 t.cl) := fun z => (HB.out.keep z.below).c9
    refine wp_region_sub (w0 := X) (by kernel_rfl) (by kernel_rfl) (Below.refl _ _).drew ?_
    repeat (first | go_big_quiet_step ((go_at_call 28; exact sub_of _ (IA _).out)) | quiet_step ((go_at_call 28; exact sub_of _ (IA _).out)))
    refine wpQuiet_nil ?_
    rintro _ ⟨y, rfl⟩
    clear k0 k1 k2 k3 k4 k5 k6 k7 k8 k9
    go_wp2_with fail
    go_ret
    exact ⟨rfl, HR.out.trans (y.below.mono HR.out.size)⟩
  · rw [if_neg h]
    go_enter Tryd.func33, Tryd.ntmps33
    go_wp2_with fail
    generalize w.alloc (Obj.cells #[.string t.rf, .string t.se, .string t.bu, .string t.sn, .int .i64 t.q, .int .i64 t.c, .int .i64 t.n, .int .i64 t.d, .int .i64 t.op, .int .i64 t.cl] 28) = X at *
    have k0 : ∀ z : Sub X, z.val.cell? ⟨w.heap.size, 0, none⟩ = some (.string t.rf) := fun z => (HB.out.keep z.below).c0
    have k1 : ∀ z : Sub X, z.val.cell? ⟨w.heap.size, 1, none⟩ = some (.string t.se) := fun z => (HB.out.keep z.below).c1
    have k2 : ∀ z : Sub X, z.val.cell? ⟨w.heap.size, 2, none⟩ = some (.string t.bu) := fun z => (HB.out.keep z.below).c2
    have k3 : ∀ z : Sub X, z.val.cell? ⟨w.heap.size, 3, none⟩ = some (.string t.sn) := fun z => (HB.out.keep z.below).c3
    have k4 : ∀ z : Sub X, z.val.cell? ⟨w.heap.size, 4, none⟩ = some (.int .i64 t.q) := fun z => (HB.out.keep z.below).c4
    have k5 : ∀ z : Sub X, z.val.cell? ⟨w.heap.size, 5, none⟩ = some (.int .i64 t.c) := fun z => (HB.out.keep z.below).c5
    have k6 : ∀ z : Sub X, z.val.cell? ⟨w.heap.size, 6, none⟩ = some (.int .i64 t.n) := fun z => (HB.out.keep z.below).c6
    have k7 : ∀ z : Sub X, z.val.cell? ⟨w.heap.size, 7, none⟩ = some (.int .i64 t.d) := fun z => (HB.out.keep z.below).c7
    have k8 : ∀ z : Sub X, z.val.cell? ⟨w.heap.size, 8, none⟩ = some (.int .i64 t.op) := fun z => (HB.out.keep z.below).c8
    have k9 : ∀ z : Sub X, z.val.cell? ⟨w.heap.size, 9, none⟩ = some (.int .i64 t.cl) := fun z => (HB.out.keep z.below).c9
    refine wp_region_sub (w0 := X) (by kernel_rfl) (by kernel_rfl) (Below.refl _ _).drew ?_
    repeat (first | go_big_quiet_step ((go_at_call 28; exact sub_of _ (IA _).out)) | quiet_step ((go_at_call 28; exact sub_of _ (IA _).out)))
    refine wpQuiet_nil ?_
    rintro _ ⟨y, rfl⟩
    clear k0 k1 k2 k3 k4 k5 k6 k7 k8 k9
    go_wp2_with fail
    go_ret
    exact ⟨rfl, HR.out.trans (y.below.mono HR.out.size)⟩

end Go.Proofs.YtjjaemobgfconaaDoor
