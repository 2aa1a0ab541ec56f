/-
  The contract of the reference's Compensation at this translation.
-/
import Derived.Test.YtkmpmegiiaamdaaDoorG6
import Derived.Test.YtkmpmegiiaamdaaDoorG4
namespace Go.Proofs.YtkmpmegiiaamdaaDoor
open Go.RowKit
set_option linter.unusedVariables false
set_option linter.unusedSimpArgs false
set_option linter.unnecessarySimpa false

theorem cE_ft {t : Cs} (h : cE t = 0) : t.ft = 0 ∨ t.ft = 1 := by
  unfold cE cEb at h
  repeat' (split at h; · cases h)
  rename_i h8
  simp at h8
  omega
set_option maxHeartbeats 16000000 in
set_option maxRecDepth 20000 in
theorem rcomp_any (t : Cs) (am pr : Int) (w : World) (h : t.Ok) (ha : -9223372036854775808 ≤ am ∧ am ≤ 9223372036854775807) (hp : -9223372036854775808 ≤ pr ∧ pr ≤ 9223372036854775807) :
    Calls Tryd.prog 15 #[.agg #[.string t.rf, .string t.d, .string t.r, .string t.a, .int .i64 t.q, .int .i64 t.v, .int .i64 t.sd, .int .i64 t.ft], .int .i64 am, .int .i64 pr] w fun e w' => e = .returned (.tuple #[.agg #[.string (coC t am pr).rf, .string (coC t am pr).fr, .string (coC t am pr).to, .int .i64 (coC t am pr).x], .int .i64 (coE t am pr)]) ∧ Below w.heap.size w w' := by
  have CK := fun w => hide (rcheck_any t w h)
  have HR := hide (two_allocs w (Obj.cells #[.string t.rf, .string t.d, .string t.r, .string t.a, .int .i64 t.q, .int .i64 t.v, .int .i64 t.sd, .int .i64 t.ft] 23) (Obj.cells #[.string ⟨#[]⟩, .string ⟨#[]⟩, .string ⟨#[]⟩, .int .i64 0] 43))
  have HB := hide ((TB.new t w 23).keep (one_alloc _ (Obj.cells #[.string ⟨#[]⟩, .string ⟨#[]⟩, .string ⟨#[]⟩, .int .i64 0] 43)))
  have s4 : (w.alloc (Obj.cells #[.string t.rf, .string t.d, .string t.r, .string t.a, .int .i64 t.q, .int .i64 t.v, .int .i64 t.sd, .int .i64 t.ft] 23)).heap.size = w.heap.size + 1 := by simp
  have H4 := hide (CB.new zC (w.alloc (Obj.cells #[.string t.rf, .string t.d, .string t.r, .string t.a, .int .i64 t.q, .int .i64 t.v, .int .i64 t.sd, .int .i64 t.ft] 23)) 43)
  rw [s4] at H4
  clear s4
  have H4 : Hid (CB (w.heap.size + 1) zC ((w.alloc (Obj.cells #[.string t.rf, .string t.d, .string t.r, .string t.a, .int .i64 t.q, .int .i64 t.v, .int .i64 t.sd, .int .i64 t.ft] 23)).alloc (Obj.cells #[.string ⟨#[]⟩, .string ⟨#[]⟩, .string ⟨#[]⟩, .int .i64 0] 43))) := H4
  by_cases hE : cE t = 0
  · have q12 := cE_num hE
    obtain ⟨q1, q2⟩ := q12
    rw [hE] at CK
    by_cases hb2 : amB am = false ∨ pr < 0 ∨ 1000000000 < pr
    · have e : coE t am pr = 2 := by unfold coE; rw [if_neg (fun h => h hE), if_pos hb2]
      have ec : coC t am pr = zC := by unfold coC; rw [e]; exact if_neg (by decide)
      rw [e, ec]
      have hb3 : am < 0 ∨ 1000000000000000 < am ∨ pr < 0 ∨ 1000000000 < pr := by
        unfold amB at hb2
        simp only [Bool.and_eq_false_iff, decide_eq_false_iff_not] at hb2
        omega
      clear e ec hE h ha hb2
      by_cases h0 : am < 0
      · clear hb3
        go_enter Tryd.func15, Tryd.ntmps15
        obtain ⟨_, c0, c1, c2, c3, c4, c5, c6, c7⟩ := HB.out
        go_wp2_with fail
        refine ((CK _).out).mono ?_
        rintro e x1 ⟨rfl, hb⟩
        have HB := hide (HB.out.keep hb)
        have H4 := hide (H4.out.keep hb)
        have HR := hide (HR.out.trans (hb.mono HR.out.size))
        clear hb c0 c1 c2 c3 c4 c5 c6 c7
        obtain ⟨_, f0, f1, f2, f3, zf⟩ := H4.out
        dsimp only [zC] at f0 f1 f2 f3
        go_wp2_with fail
        exact bodyPost_ret (v := .tuple #[.agg #[.string ⟨#[]⟩, .string ⟨#[]⟩, .string ⟨#[]⟩, .int .i64 0], .int .i64 2]) (by simp [results, Tryd.results15, go_sem, f0, f1, f2, f3, zf]) rfl ⟨rfl, ((((HR.out.setCell (by simp; try omega) _).setCell (by simp; try omega) _).setCell (by simp; try omega) _).setCell (by simp; try omega) _)⟩
      · by_cases h1 : 1000000000000000 < am
        · have h0 : 0 ≤ am := by omega
          clear hb3
          go_enter Tryd.func15, Tryd.ntmps15
          obtain ⟨_, c0, c1, c2, c3, c4, c5, c6, c7⟩ := HB.out
          go_wp2_with fail
          refine ((CK _).out).mono ?_
          rintro e x1 ⟨rfl, hb⟩
          have HB := hide (HB.out.keep hb)
          have H4 := hide (H4.out.keep hb)
          have HR := hide (HR.out.trans (hb.mono HR.out.size))
          clear hb c0 c1 c2 c3 c4 c5 c6 c7
          obtain ⟨_, f0, f1, f2, f3, zf⟩ := H4.out
          dsimp only [zC] at f0 f1 f2 f3
          go_wp2_with fail
          exact bodyPost_ret (v := .tuple #[.agg #[.string ⟨#[]⟩, .string ⟨#[]⟩, .string ⟨#[]⟩, .int .i64 0], .int .i64 2]) (by simp [results, Tryd.results15, go_sem, f0, f1, f2, f3, zf]) rfl ⟨rfl, ((((HR.out.setCell (by simp; try omega) _).setCell (by simp; try omega) _).setCell (by simp; try omega) _).setCell (by simp; try omega) _)⟩
        · by_cases h2 : pr < 0
          · have h0 : 0 ≤ am := by omega
            have h1 : am ≤ 1000000000000000 := by omega
            clear hb3
            go_enter Tryd.func15, Tryd.ntmps15
            obtain ⟨_, c0, c1, c2, c3, c4, c5, c6, c7⟩ := HB.out
            go_wp2_with fail
            refine ((CK _).out).mono ?_
            rintro e x1 ⟨rfl, hb⟩
            have HB := hide (HB.out.keep hb)
            have H4 := hide (H4.out.keep hb)
            have HR := hide (HR.out.trans (hb.mono HR.out.size))
            clear hb c0 c1 c2 c3 c4 c5 c6 c7
            obtain ⟨_, f0, f1, f2, f3, zf⟩ := H4.out
            dsimp only [zC] at f0 f1 f2 f3
            go_wp2_with fail
            exact bodyPost_ret (v := .tuple #[.agg #[.string ⟨#[]⟩, .string ⟨#[]⟩, .string ⟨#[]⟩, .int .i64 0], .int .i64 2]) (by simp [results, Tryd.results15, go_sem, f0, f1, f2, f3, zf]) rfl ⟨rfl, ((((HR.out.setCell (by simp; try omega) _).setCell (by simp; try omega) _).setCell (by simp; try omega) _).setCell (by simp; try omega) _)⟩
          · have h3 : 1000000000 < pr := by omega
            have h0 : 0 ≤ am := by omega
            have h1 : am ≤ 1000000000000000 := by omega
            have h2 : 0 ≤ pr := by omega
            clear hb3
            go_enter Tryd.func15, Tryd.ntmps15
            obtain ⟨_, c0, c1, c2, c3, c4, c5, c6, c7⟩ := HB.out
            go_wp2_with fail
            refine ((CK _).out).mono ?_
            rintro e x1 ⟨rfl, hb⟩
            have HB := hide (HB.out.keep hb)
            have H4 := hide (H4.out.keep hb)
            have HR := hide (HR.out.trans (hb.mono HR.out.size))
            clear hb c0 c1 c2 c3 c4 c5 c6 c7
            obtain ⟨_, f0, f1, f2, f3, zf⟩ := H4.out
            dsimp only [zC] at f0 f1 f2 f3
            go_wp2_with fail
            exact bodyPost_ret (v := .tuple #[.agg #[.string ⟨#[]⟩, .string ⟨#[]⟩, .string ⟨#[]⟩, .int .i64 0], .int .i64 2]) (by simp [results, Tryd.results15, go_sem, f0, f1, f2, f3, zf]) rfl ⟨rfl, ((((HR.out.setCell (by simp; try omega) _).setCell (by simp; try omega) _).setCell (by simp; try omega) _).setCell (by simp; try omega) _)⟩
    · have hA : amB am = true := by cases hA : amB am with | true => rfl | false => exact absurd (.inl hA) hb2
      have h1 : 0 ≤ pr := by omega
      have h2 : pr ≤ 1000000000 := by omega
      have am2 := hA
      unfold amB at am2
      simp only [Bool.and_eq_true, decide_eq_true_eq] at am2
      obtain ⟨a1, a2⟩ := am2
      by_cases h3 : 0 < pr ∧ 1000000000000000 / pr < t.q
      · have e : coE t am pr = 12 := by unfold coE; rw [if_neg (fun h => h hE), if_neg hb2, if_pos h3]
        have ec : coC t am pr = zC := by unfold coC; rw [e]; exact if_neg (by decide)
        rw [e, ec]
        obtain ⟨h4, h5⟩ := h3
        have pz : (pr == 0) = false := by simpa using (show ¬ pr = 0 by omega)
        have hd : (1000000000000000 : Int).tdiv pr = 1000000000000000 / pr := Int.tdiv_eq_ediv_of_nonneg (by decide)
        have hd0 : 0 ≤ (1000000000000000 : Int) / pr := Int.ediv_nonneg (by decide) h1
        have hd9 : (1000000000000000 : Int) / pr ≤ 1000000000000000 := Int.ediv_le_self _ (by decide)
        have hwd : wrap64 ((1000000000000000 : Int) / pr) = 1000000000000000 / pr := by unfold wrap64; omega
        clear e ec hE h ha hb2 hA
        go_enter Tryd.func15, Tryd.ntmps15
        obtain ⟨_, c0, c1, c2, c3, c4, c5, c6, c7⟩ := HB.out
        go_wp2_with fail
        refine ((CK _).out).mono ?_
        rintro e x1 ⟨rfl, hb⟩
        have HB := hide (HB.out.keep hb)
        have H4 := hide (H4.out.keep hb)
        have HR := hide (HR.out.trans (hb.mono HR.out.size))
        clear hb c0 c1 c2 c3 c4 c5 c6 c7
        obtain ⟨_, c0, c1, c2, c3, c4, c5, c6, c7⟩ := HB.out
        go_wp2_with fail
        go_region
        clear c0 c1 c2 c3 c4 c5 c6 c7
        have hb : Below x1.heap.size x1 x1.drew := (Below.refl _ _).drew
        have HB := hide (HB.out.keep hb)
        have H4 := hide (H4.out.keep hb)
        have HR := hide (HR.out.trans (hb.mono HR.out.size))
        clear hb
        generalize x1.drew = x3 at *
        obtain ⟨_, f0, f1, f2, f3, zf⟩ := H4.out
        dsimp only [zC] at f0 f1 f2 f3
        go_wp2_with fail
        exact bodyPost_ret (v := .tuple #[.agg #[.string ⟨#[]⟩, .string ⟨#[]⟩, .string ⟨#[]⟩, .int .i64 0], .int .i64 12]) (by simp [results, Tryd.results15, go_sem, f0, f1, f2, f3, zf]) rfl ⟨rfl, ((((HR.out.setCell (by simp; try omega) _).setCell (by simp; try omega) _).setCell (by simp; try omega) _).setCell (by simp; try omega) _)⟩
      · have e : coE t am pr = 0 := by unfold coE; rw [if_neg (fun h => h hE), if_neg hb2, if_neg h3]
        have ec : coC t am pr = chC t (coX t am pr) := by unfold coC; exact if_pos e
        rw [e, ec]
        have P0 : 0 ≤ t.q * pr := Int.mul_nonneg (by omega) h1
        have P1 : t.q * pr ≤ 1000000000000000 := by
          by_cases h4 : 0 < pr
          · have h5 : t.q ≤ 1000000000000000 / pr := by omega
            exact Int.le_trans (Int.mul_le_mul_of_nonneg_right h5 h1) (Int.ediv_mul_le _ (by omega))
          · have : pr = 0 := by omega
            rw [this]; omega
        have hw : wrap64 (t.q * pr) = t.q * pr := by unfold wrap64; omega
        have hw2 : IntKind.i64.wrap (t.q * pr) = t.q * pr := by rw [IntKind.wrap_i64]; omega
        have hd : (1000000000000000 : Int).tdiv pr = 1000000000000000 / pr := Int.tdiv_eq_ediv_of_nonneg (by decide)
        have hd0 : 0 ≤ (1000000000000000 : Int) / pr := Int.ediv_nonneg (by decide) h1
        have hd9 : (1000000000000000 : Int) / pr ≤ 1000000000000000 := Int.ediv_le_self _ (by decide)
        have hwd : wrap64 ((1000000000000000 : Int) / pr) = 1000000000000000 / pr := by unfold wrap64; omega
        have ft01 := cE_ft hE
        unfold coX
        clear e ec hE h ha hb2 hA
        by_cases hf : t.ft = 1
        · rw [if_pos hf]
          have ech : chC t (max (-(t.q * pr - am)) 0) = ⟨t.rf, t.r, t.d, max (-(t.q * pr - am)) 0⟩ := if_neg (by omega)
          rw [ech]
          have kf : (t.ft == 1) = true := by simpa using hf
          have hm : max 0 (-(t.q * pr - am)) = max (-(t.q * pr - am)) 0 := Int.max_comm _ _
          clear hf ech ft01
          by_cases h4 : 0 < pr
          · have h5 : t.q ≤ 1000000000000000 / pr := by omega
            have hq5 : ¬ (1000000000000000 / pr < t.q) := by omega
            have pz : (pr == 0) = false := by simpa using (show ¬ pr = 0 by omega)
            clear h3
            go_enter Tryd.func15, Tryd.ntmps15
            obtain ⟨_, c0, c1, c2, c3, c4, c5, c6, c7⟩ := HB.out
            go_wp2_with fail
            refine ((CK _).out).mono ?_
            rintro e x1 ⟨rfl, hb⟩
            have HB := hide (HB.out.keep hb)
            have H4 := hide (H4.out.keep hb)
            have HR := hide (HR.out.trans (hb.mono HR.out.size))
            clear hb c0 c1 c2 c3 c4 c5 c6 c7
            obtain ⟨_, c0, c1, c2, c3, c4, c5, c6, c7⟩ := HB.out
            go_wp2_with fail
            go_region
            clear c0 c1 c2 c3 c4 c5 c6 c7
            have hb : Below x1.heap.size x1 x1.drew := (Below.refl _ _).drew
            have HB := hide (HB.out.keep hb)
            have H4 := hide (H4.out.keep hb)
            have HR := hide (HR.out.trans (hb.mono HR.out.size))
            clear hb
            generalize x1.drew = x3 at *
            obtain ⟨_, c0, c1, c2, c3, c4, c5, c6, c7⟩ := HB.out
            obtain ⟨_, f0, f1, f2, f3, zf⟩ := H4.out
            dsimp only [zC] at f0 f1 f2 f3
            go_wp2_with fail
            exact bodyPost_ret (v := .tuple #[.agg #[.string t.rf, .string t.r, .string t.d, .int .i64 (max (-(t.q * pr - am)) 0)], .int .i64 0]) (by simp [results, Tryd.results15, go_sem, f0, f1, f2, f3, zf]) rfl ⟨rfl, ((((HR.out.setCell (by simp; try omega) _).setCell (by simp; try omega) _).setCell (by simp; try omega) _).setCell (by simp; try omega) _)⟩
          · have h5 : pr ≤ 0 := by omega
            have d5 : decide (0 < pr) = false := decide_eq_false (by omega)
            clear h3 h4
            go_enter Tryd.func15, Tryd.ntmps15
            obtain ⟨_, c0, c1, c2, c3, c4, c5, c6, c7⟩ := HB.out
            go_wp2_with fail
            refine ((CK _).out).mono ?_
            rintro e x1 ⟨rfl, hb⟩
            have HB := hide (HB.out.keep hb)
            have H4 := hide (H4.out.keep hb)
            have HR := hide (HR.out.trans (hb.mono HR.out.size))
            clear hb c0 c1 c2 c3 c4 c5 c6 c7
            obtain ⟨_, c0, c1, c2, c3, c4, c5, c6, c7⟩ := HB.out
            go_wp2_with fail
            go_region
            clear c0 c1 c2 c3 c4 c5 c6 c7
            have hb : Below x1.heap.size x1 x1.drew := (Below.refl _ _).drew
            have HB := hide (HB.out.keep hb)
            have H4 := hide (H4.out.keep hb)
            have HR := hide (HR.out.trans (hb.mono HR.out.size))
            clear hb
            generalize x1.drew = x3 at *
            obtain ⟨_, c0, c1, c2, c3, c4, c5, c6, c7⟩ := HB.out
            obtain ⟨_, f0, f1, f2, f3, zf⟩ := H4.out
            dsimp only [zC] at f0 f1 f2 f3
            go_wp2_with fail
            exact bodyPost_ret (v := .tuple #[.agg #[.string t.rf, .string t.r, .string t.d, .int .i64 (max (-(t.q * pr - am)) 0)], .int .i64 0]) (by simp [results, Tryd.results15, go_sem, f0, f1, f2, f3, zf]) rfl ⟨rfl, ((((HR.out.setCell (by simp; try omega) _).setCell (by simp; try omega) _).setCell (by simp; try omega) _).setCell (by simp; try omega) _)⟩
        · rw [if_neg hf]
          have ech : chC t (max (t.q * pr - am) 0) = ⟨t.rf, t.d, t.r, max (t.q * pr - am) 0⟩ := if_pos (by omega)
          rw [ech]
          have kf : (t.ft == 1) = false := by simpa using hf
          have hm : max 0 (t.q * pr - am) = max (t.q * pr - am) 0 := Int.max_comm _ _
          clear hf ech ft01
          by_cases h4 : 0 < pr
          · have h5 : t.q ≤ 1000000000000000 / pr := by omega
            have hq5 : ¬ (1000000000000000 / pr < t.q) := by omega
            have pz : (pr == 0) = false := by simpa using (show ¬ pr = 0 by omega)
            clear h3
            go_enter Tryd.func15, Tryd.ntmps15
            obtain ⟨_, c0, c1, c2, c3, c4, c5, c6, c7⟩ := HB.out
            go_wp2_with fail
            refine ((CK _).out).mono ?_
            rintro e x1 ⟨rfl, hb⟩
            have HB := hide (HB.out.keep hb)
            have H4 := hide (H4.out.keep hb)
            have HR := hide (HR.out.trans (hb.mono HR.out.size))
            clear hb c0 c1 c2 c3 c4 c5 c6 c7
            obtain ⟨_, c0, c1, c2, c3, c4, c5, c6, c7⟩ := HB.out
            go_wp2_with fail
            go_region
            clear c0 c1 c2 c3 c4 c5 c6 c7
            have hb : Below x1.heap.size x1 x1.drew := (Below.refl _ _).drew
            have HB := hide (HB.out.keep hb)
            have H4 := hide (H4.out.keep hb)
            have HR := hide (HR.out.trans (hb.mono HR.out.size))
            clear hb
            generalize x1.drew = x3 at *
            obtain ⟨_, c0, c1, c2, c3, c4, c5, c6, c7⟩ := HB.out
            obtain ⟨_, f0, f1, f2, f3, zf⟩ := H4.out
            dsimp only [zC] at f0 f1 f2 f3
            go_wp2_with fail
            exact bodyPost_ret (v := .tuple #[.agg #[.string t.rf, .string t.d, .string t.r, .int .i64 (max (t.q * pr - am) 0)], .int .i64 0]) (by simp [results, Tryd.results15, go_sem, f0, f1, f2, f3, zf]) rfl ⟨rfl, ((((HR.out.setCell (by simp; try omega) _).setCell (by simp; try omega) _).setCell (by simp; try omega) _).setCell (by simp; try omega) _)⟩
          · have h5 : pr ≤ 0 := by omega
            have d5 : decide (0 < pr) = false := decide_eq_false (by omega)
            clear h3 h4
            go_enter Tryd.func15, Tryd.ntmps15
            obtain ⟨_, c0, c1, c2, c3, c4, c5, c6, c7⟩ := HB.out
            go_wp2_with fail
            refine ((CK _).out).mono ?_
            rintro e x1 ⟨rfl, hb⟩
            have HB := hide (HB.out.keep hb)
            have H4 := hide (H4.out.keep hb)
            have HR := hide (HR.out.trans (hb.mono HR.out.size))
            clear hb c0 c1 c2 c3 c4 c5 c6 c7
            obtain ⟨_, c0, c1, c2, c3, c4, c5, c6, c7⟩ := HB.out
            go_wp2_with fail
            go_region
            clear c0 c1 c2 c3 c4 c5 c6 c7
            have hb : Below x1.heap.size x1 x1.drew := (Below.refl _ _).drew
            have HB := hide (HB.out.keep hb)
            have H4 := hide (H4.out.keep hb)
            have HR := hide (HR.out.trans (hb.mono HR.out.size))
            clear hb
            generalize x1.drew = x3 at *
            obtain ⟨_, c0, c1, c2, c3, c4, c5, c6, c7⟩ := HB.out
            obtain ⟨_, f0, f1, f2, f3, zf⟩ := H4.out
            dsimp only [zC] at f0 f1 f2 f3
            go_wp2_with fail
            exact bodyPost_ret (v := .tuple #[.agg #[.string t.rf, .string t.d, .string t.r, .int .i64 (max (t.q * pr - am) 0)], .int .i64 0]) (by simp [results, Tryd.results15, go_sem, f0, f1, f2, f3, zf]) rfl ⟨rfl, ((((HR.out.setCell (by simp; try omega) _).setCell (by simp; try omega) _).setCell (by simp; try omega) _).setCell (by simp; try omega) _)⟩
  · have e : coE t am pr = cE t := by unfold coE; rw [if_pos hE]
    have ec : coC t am pr = zC := by unfold coC; rw [e]; exact if_neg hE
    rw [e, ec]
    have e1 : (cE t != 0) = true := by simpa using hE
    generalize cE t = E at *
    clear hE e ec h
    go_enter Tryd.func15, Tryd.ntmps15
    obtain ⟨_, c0, c1, c2, c3, c4, c5, c6, c7⟩ := HB.out
    go_wp2_with fail
    refine ((CK _).out).mono ?_
    rintro e x1 ⟨rfl, hb⟩
    have HB := hide (HB.out.keep hb)
    have H4 := hide (H4.out.keep hb)
    have HR := hide (HR.out.trans (hb.mono HR.out.size))
    clear hb c0 c1 c2 c3 c4 c5 c6 c7
    obtain ⟨_, f0, f1, f2, f3, zf⟩ := H4.out
    dsimp only [zC] at f0 f1 f2 f3
    go_wp2_with fail
    exact bodyPost_ret (v := .tuple #[.agg #[.string ⟨#[]⟩, .string ⟨#[]⟩, .string ⟨#[]⟩, .int .i64 0], .int .i64 E]) (by simp [results, Tryd.results15, go_sem, f0, f1, f2, f3, zf]) rfl ⟨rfl, ((((HR.out.setCell (by simp; try omega) _).setCell (by simp; try omega) _).setCell (by simp; try omega) _).setCell (by simp; try omega) _)⟩
end Go.Proofs.YtkmpmegiiaamdaaDoor
