/-
  The contract of Compensation at this translation.
-/
import Derived.Test.YtkmpmegiiaamdaaDoorG5
namespace Go.Proofs.YtkmpmegiiaamdaaDoor
open Go.RowKit
set_option linter.unusedVariables false
set_option linter.unusedSimpArgs false
set_option linter.unnecessarySimpa false

def coE (t : Cs) (am pr : Int) : Int :=
  if cE t ≠ 0 then cE t else if amB am = false ∨ pr < 0 ∨ 1000000000 < pr then 2 else if 0 < pr ∧ 1000000000000000 / pr < t.q then 12 else 0
def coX (t : Cs) (am pr : Int) : Int := max (if t.ft = 1 then -(t.q * pr - am) else t.q * pr - am) 0
def coC (t : Cs) (am pr : Int) : Ch := if coE t am pr = 0 then chC t (coX t am pr) else zC
theorem cE_num {t : Cs} (h : cE t = 0) : 1 ≤ t.q ∧ t.q ≤ 1000000000000000 := by
  unfold cE cEb at h
  repeat' (split at h; · cases h)
  rename_i h5 _ _ _
  simp only [Bool.not_eq_false, Bool.and_eq_true, decide_eq_true_eq] at h5
  unfold amB at h5
  simp only [Bool.and_eq_true, decide_eq_true_eq] at h5
  omega
set_option maxHeartbeats 16000000 in
set_option maxRecDepth 20000 in
theorem comp_any (t : Cs) (am pr : Int) (w : World) (S : Shp w) (h : t.Ok) (ha : -9223372036854775808 ≤ am ∧ am ≤ 9223372036854775807) (hp : -9223372036854775808 ≤ pr ∧ pr ≤ 9223372036854775807) :
    Calls Tryd.prog 14 #[.agg #[.string t.rf, .string t.d, .string t.r, .string t.a, .int .i64 t.q, .int .i64 t.v, .int .i64 t.sd, .int .i64 t.ft], .int .i64 am, .int .i64 pr] w fun e w' => e = .returned (.tuple #[.agg #[.string (coC t am pr).rf, .string (coC t am pr).fr, .string (coC t am pr).to, .int .i64 (coC t am pr).x], .int .i64 (coE t am pr)]) ∧ Below w.heap.size w w' := by
  have S := hide S
  have CK := fun w S => hide (ccheck_any t w S h)
  have CH := fun x w => hide (charge_any t x w)
  have AM := fun w => hide (am_any am w)
  have HR := hide (two_allocs w (Obj.cells #[.string t.rf, .string t.d, .string t.r, .string t.a, .int .i64 t.q, .int .i64 t.v, .int .i64 t.sd, .int .i64 t.ft] 25) (Obj.cells #[.string ⟨#[]⟩, .string ⟨#[]⟩, .string ⟨#[]⟩, .int .i64 0] 36))
  have HB := hide ((TB.new t w 25).keep (one_alloc _ (Obj.cells #[.string ⟨#[]⟩, .string ⟨#[]⟩, .string ⟨#[]⟩, .int .i64 0] 36)))
  have s4 : (w.alloc (Obj.cells #[.string t.rf, .string t.d, .string t.r, .string t.a, .int .i64 t.q, .int .i64 t.v, .int .i64 t.sd, .int .i64 t.ft] 25)).heap.size = w.heap.size + 1 := by simp
  have H4 := hide (CB.new zC (w.alloc (Obj.cells #[.string t.rf, .string t.d, .string t.r, .string t.a, .int .i64 t.q, .int .i64 t.v, .int .i64 t.sd, .int .i64 t.ft] 25)) 36)
  rw [s4] at H4
  clear s4
  have H4 : Hid (CB (w.heap.size + 1) zC ((w.alloc (Obj.cells #[.string t.rf, .string t.d, .string t.r, .string t.a, .int .i64 t.q, .int .i64 t.v, .int .i64 t.sd, .int .i64 t.ft] 25)).alloc (Obj.cells #[.string ⟨#[]⟩, .string ⟨#[]⟩, .string ⟨#[]⟩, .int .i64 0] 36))) := H4
  by_cases hE : cE t = 0
  · have q12 := cE_num hE
    obtain ⟨q1, q2⟩ := q12
    rw [hE] at CK
    by_cases hb2 : amB am = false ∨ pr < 0 ∨ 1000000000 < pr
    · have e : coE t am pr = 2 := by unfold coE; rw [if_neg (fun h => h hE), if_pos hb2]
      have ec : coC t am pr = zC := by unfold coC; rw [e]; exact if_neg (by decide)
      rw [e, ec]
      clear e ec hE h ha
      cases hA : amB am
      · rw [hA] at AM
        clear hb2 hA
        go_enter Tryd.func14, Tryd.ntmps14
        obtain ⟨_, c0, c1, c2, c3, c4, c5, c6, c7⟩ := HB.out
        go_wp2_with fail
        refine ((CK _ (S.out.keep HR.out)).out).mono ?_
        rintro e x1 ⟨rfl, hb⟩
        have HB := hide (HB.out.keep hb)
        have H4 := hide (H4.out.keep hb)
        have HR := hide (HR.out.trans (hb.mono HR.out.size))
        clear hb c0 c1 c2 c3 c4 c5 c6 c7
        go_wp2_with fail
        refine ((AM _).out).mono ?_
        rintro e x2 ⟨rfl, rfl⟩
        obtain ⟨_, f0, f1, f2, f3, zf⟩ := H4.out
        dsimp only [zC] at f0 f1 f2 f3
        go_wp2_with fail
        exact bodyPost_ret (v := .tuple #[.agg #[.string ⟨#[]⟩, .string ⟨#[]⟩, .string ⟨#[]⟩, .int .i64 0], .int .i64 2]) (by simp [results, Tryd.results14, go_sem, f0, f1, f2, f3, zf]) rfl ⟨rfl, ((((HR.out.setCell (by simp; try omega) _).setCell (by simp; try omega) _).setCell (by simp; try omega) _).setCell (by simp; try omega) _)⟩
      · rw [hA] at AM
        by_cases h1 : pr < 0
        · clear hb2 hA
          go_enter Tryd.func14, Tryd.ntmps14
          obtain ⟨_, c0, c1, c2, c3, c4, c5, c6, c7⟩ := HB.out
          go_wp2_with fail
          refine ((CK _ (S.out.keep HR.out)).out).mono ?_
          rintro e x1 ⟨rfl, hb⟩
          have HB := hide (HB.out.keep hb)
          have H4 := hide (H4.out.keep hb)
          have HR := hide (HR.out.trans (hb.mono HR.out.size))
          clear hb c0 c1 c2 c3 c4 c5 c6 c7
          go_wp2_with fail
          refine ((AM _).out).mono ?_
          rintro e x2 ⟨rfl, rfl⟩
          obtain ⟨_, f0, f1, f2, f3, zf⟩ := H4.out
          dsimp only [zC] at f0 f1 f2 f3
          go_wp2_with fail
          exact bodyPost_ret (v := .tuple #[.agg #[.string ⟨#[]⟩, .string ⟨#[]⟩, .string ⟨#[]⟩, .int .i64 0], .int .i64 2]) (by simp [results, Tryd.results14, go_sem, f0, f1, f2, f3, zf]) rfl ⟨rfl, ((((HR.out.setCell (by simp; try omega) _).setCell (by simp; try omega) _).setCell (by simp; try omega) _).setCell (by simp; try omega) _)⟩
        · have h2 : 1000000000 < pr := by simp [hA] at hb2; omega
          have h1 : 0 ≤ pr := by omega
          clear hb2 hA
          go_enter Tryd.func14, Tryd.ntmps14
          obtain ⟨_, c0, c1, c2, c3, c4, c5, c6, c7⟩ := HB.out
          go_wp2_with fail
          refine ((CK _ (S.out.keep HR.out)).out).mono ?_
          rintro e x1 ⟨rfl, hb⟩
          have HB := hide (HB.out.keep hb)
          have H4 := hide (H4.out.keep hb)
          have HR := hide (HR.out.trans (hb.mono HR.out.size))
          clear hb c0 c1 c2 c3 c4 c5 c6 c7
          go_wp2_with fail
          refine ((AM _).out).mono ?_
          rintro e x2 ⟨rfl, rfl⟩
          obtain ⟨_, f0, f1, f2, f3, zf⟩ := H4.out
          dsimp only [zC] at f0 f1 f2 f3
          go_wp2_with fail
          exact bodyPost_ret (v := .tuple #[.agg #[.string ⟨#[]⟩, .string ⟨#[]⟩, .string ⟨#[]⟩, .int .i64 0], .int .i64 2]) (by simp [results, Tryd.results14, go_sem, f0, f1, f2, f3, zf]) rfl ⟨rfl, ((((HR.out.setCell (by simp; try omega) _).setCell (by simp; try omega) _).setCell (by simp; try omega) _).setCell (by simp; try omega) _)⟩
    · have hA : amB am = true := by cases hA : amB am with | true => rfl | false => exact absurd (.inl hA) hb2
      have h1 : 0 ≤ pr := by omega
      have h2 : pr ≤ 1000000000 := by omega
      have am2 := hA
      unfold amB at am2
      simp only [Bool.and_eq_true, decide_eq_true_eq] at am2
      obtain ⟨a1, a2⟩ := am2
      rw [hA] at AM
      by_cases h3 : 0 < pr ∧ 1000000000000000 / pr < t.q
      · have e : coE t am pr = 12 := by unfold coE; rw [if_neg (fun h => h hE), if_neg hb2, if_pos h3]
        have ec : coC t am pr = zC := by unfold coC; rw [e]; exact if_neg (by decide)
        rw [e, ec]
        obtain ⟨h4, h5⟩ := h3
        have pz : (pr == 0) = false := by simpa using (show ¬ pr = 0 by omega)
        have hd : (1000000000000000 : Int).tdiv pr = 1000000000000000 / pr := Int.tdiv_eq_ediv_of_nonneg (by decide)
        have hd0 : 0 ≤ (1000000000000000 : Int) / pr := Int.ediv_nonneg (by decide) h1
        have hd9 : (1000000000000000 : Int) / pr ≤ 1000000000000000 := Int.ediv_le_self _ (by decide)
        have hwd : wrap64 ((1000000000000000 : Int) / pr) = 1000000000000000 / pr := by unfold wrap64; omega
        clear e ec hE h ha hb2 hA
        go_enter Tryd.func14, Tryd.ntmps14
        obtain ⟨_, c0, c1, c2, c3, c4, c5, c6, c7⟩ := HB.out
        go_wp2_with fail
        refine ((CK _ (S.out.keep HR.out)).out).mono ?_
        rintro e x1 ⟨rfl, hb⟩
        have HB := hide (HB.out.keep hb)
        have H4 := hide (H4.out.keep hb)
        have HR := hide (HR.out.trans (hb.mono HR.out.size))
        clear hb c0 c1 c2 c3 c4 c5 c6 c7
        go_wp2_with fail
        refine ((AM _).out).mono ?_
        rintro e x2 ⟨rfl, rfl⟩
        obtain ⟨_, c0, c1, c2, c3, c4, c5, c6, c7⟩ := HB.out
        go_wp2_with fail
        go_region
        clear c0 c1 c2 c3 c4 c5 c6 c7
        have hb : Below x1.heap.size x1 x1.drew := (Below.refl _ _).drew
        have HB := hide (HB.out.keep hb)
        have H4 := hide (H4.out.keep hb)
        have HR := hide (HR.out.trans (hb.mono HR.out.size))
        clear hb
        generalize x1.drew = x3 at *
        obtain ⟨_, f0, f1, f2, f3, zf⟩ := H4.out
        dsimp only [zC] at f0 f1 f2 f3
        go_wp2_with fail
        exact bodyPost_ret (v := .tuple #[.agg #[.string ⟨#[]⟩, .string ⟨#[]⟩, .string ⟨#[]⟩, .int .i64 0], .int .i64 12]) (by simp [results, Tryd.results14, go_sem, f0, f1, f2, f3, zf]) rfl ⟨rfl, ((((HR.out.setCell (by simp; try omega) _).setCell (by simp; try omega) _).setCell (by simp; try omega) _).setCell (by simp; try omega) _)⟩
      · have e : coE t am pr = 0 := by unfold coE; rw [if_neg (fun h => h hE), if_neg hb2, if_neg h3]
        have ec : coC t am pr = chC t (coX t am pr) := by unfold coC; exact if_pos e
        rw [e, ec]
        have P0 : 0 ≤ t.q * pr := Int.mul_nonneg (by omega) h1
        have P1 : t.q * pr ≤ 1000000000000000 := by
          by_cases h4 : 0 < pr
          · have h5 : t.q ≤ 1000000000000000 / pr := by omega
            exact Int.le_trans (Int.mul_le_mul_of_nonneg_right h5 h1) (Int.ediv_mul_le _ (by omega))
          · have : pr = 0 := by omega
            rw [this]; omega
        have hw : wrap64 (t.q * pr) = t.q * pr := by unfold wrap64; omega
        have hw2 : IntKind.i64.wrap (t.q * pr) = t.q * pr := by rw [IntKind.wrap_i64]; omega
        have hd : (1000000000000000 : Int).tdiv pr = 1000000000000000 / pr := Int.tdiv_eq_ediv_of_nonneg (by decide)
        have hd0 : 0 ≤ (1000000000000000 : Int) / pr := Int.ediv_nonneg (by decide) h1
        have hd9 : (1000000000000000 : Int) / pr ≤ 1000000000000000 := Int.ediv_le_self _ (by decide)
        have hwd : wrap64 ((1000000000000000 : Int) / pr) = 1000000000000000 / pr := by unfold wrap64; omega
        unfold coX
        clear e ec hE h ha hb2 hA
        by_cases hf : t.ft = 1
        · rw [if_pos hf]
          have kf : (t.ft == 1) = true := by simpa using hf
          clear hf
          by_cases h4 : 0 < pr
          · have h5 : t.q ≤ 1000000000000000 / pr := by omega
            have hq5 : ¬ (1000000000000000 / pr < t.q) := by omega
            have pz : (pr == 0) = false := by simpa using (show ¬ pr = 0 by omega)
            clear h3
            go_enter Tryd.func14, Tryd.ntmps14
            obtain ⟨_, c0, c1, c2, c3, c4, c5, c6, c7⟩ := HB.out
            go_wp2_with fail
            refine ((CK _ (S.out.keep HR.out)).out).mono ?_
            rintro e x1 ⟨rfl, hb⟩
            have HB := hide (HB.out.keep hb)
            have H4 := hide (H4.out.keep hb)
            have HR := hide (HR.out.trans (hb.mono HR.out.size))
            clear hb c0 c1 c2 c3 c4 c5 c6 c7
            go_wp2_with fail
            refine ((AM _).out).mono ?_
            rintro e x2 ⟨rfl, rfl⟩
            obtain ⟨_, c0, c1, c2, c3, c4, c5, c6, c7⟩ := HB.out
            go_wp2_with fail
            go_region
            clear c0 c1 c2 c3 c4 c5 c6 c7
            have hb : Below x1.heap.size x1 x1.drew := (Below.refl _ _).drew
            have HB := hide (HB.out.keep hb)
            have H4 := hide (H4.out.keep hb)
            have HR := hide (HR.out.trans (hb.mono HR.out.size))
            clear hb
            generalize x1.drew = x3 at *
            obtain ⟨_, c0, c1, c2, c3, c4, c5, c6, c7⟩ := HB.out
            go_wp2_with fail
            refine ((CH _ _).out).mono ?_
            rintro e x4 ⟨rfl, hb⟩
            have H4 := hide (H4.out.keep hb)
            have HR := hide (HR.out.trans (hb.mono HR.out.size))
            clear hb c0 c1 c2 c3 c4 c5 c6 c7
            obtain ⟨_, f0, f1, f2, f3, zf⟩ := H4.out
            dsimp only [zC] at f0 f1 f2 f3
            go_wp2_with fail
            exact bodyPost_ret (v := .tuple #[.agg #[.string (chC t (max (-(t.q * pr - am)) 0)).rf, .string (chC t (max (-(t.q * pr - am)) 0)).fr, .string (chC t (max (-(t.q * pr - am)) 0)).to, .int .i64 (chC t (max (-(t.q * pr - am)) 0)).x], .int .i64 0]) (by simp [results, Tryd.results14, go_sem, f0, f1, f2, f3, zf]) rfl ⟨rfl, ((((HR.out.setCell (by simp; try omega) _).setCell (by simp; try omega) _).setCell (by simp; try omega) _).setCell (by simp; try omega) _)⟩
          · have h5 : pr ≤ 0 := by omega
            have d5 : decide (0 < pr) = false := decide_eq_false (by omega)
            clear h3 h4
            go_enter Tryd.func14, Tryd.ntmps14
            obtain ⟨_, c0, c1, c2, c3, c4, c5, c6, c7⟩ := HB.out
            go_wp2_with fail
            refine ((CK _ (S.out.keep HR.out)).out).mono ?_
            rintro e x1 ⟨rfl, hb⟩
            have HB := hide (HB.out.keep hb)
            have H4 := hide (H4.out.keep hb)
            have HR := hide (HR.out.trans (hb.mono HR.out.size))
            clear hb c0 c1 c2 c3 c4 c5 c6 c7
            go_wp2_with fail
            refine ((AM _).out).mono ?_
            rintro e x2 ⟨rfl, rfl⟩
            obtain ⟨_, c0, c1, c2, c3, c4, c5, c6, c7⟩ := HB.out
            go_wp2_with fail
            go_region
            clear c0 c1 c2 c3 c4 c5 c6 c7
            have hb : Below x1.heap.size x1 x1.drew := (Below.refl _ _).drew
            have HB := hide (HB.out.keep hb)
            have H4 := hide (H4.out.keep hb)
            have HR := hide (HR.out.trans (hb.mono HR.out.size))
            clear hb
            generalize x1.drew = x3 at *
            obtain ⟨_, c0, c1, c2, c3, c4, c5, c6, c7⟩ := HB.out
            go_wp2_with fail
            refine ((CH _ _).out).mono ?_
            rintro e x4 ⟨rfl, hb⟩
            have H4 := hide (H4.out.keep hb)
            have HR := hide (HR.out.trans (hb.mono HR.out.size))
            clear hb c0 c1 c2 c3 c4 c5 c6 c7
            obtain ⟨_, f0, f1, f2, f3, zf⟩ := H4.out
            dsimp only [zC] at f0 f1 f2 f3
            go_wp2_with fail
            exact bodyPost_ret (v := .tuple #[.agg #[.string (chC t (max (-(t.q * pr - am)) 0)).rf, .string (chC t (max (-(t.q * pr - am)) 0)).fr, .string (chC t (max (-(t.q * pr - am)) 0)).to, .int .i64 (chC t (max (-(t.q * pr - am)) 0)).x], .int .i64 0]) (by simp [results, Tryd.results14, go_sem, f0, f1, f2, f3, zf]) rfl ⟨rfl, ((((HR.out.setCell (by simp; try omega) _).setCell (by simp; try omega) _).setCell (by simp; try omega) _).setCell (by simp; try omega) _)⟩
        · rw [if_neg hf]
          have kf : (t.ft == 1) = false := by simpa using hf
          clear hf
          by_cases h4 : 0 < pr
          · have h5 : t.q ≤ 1000000000000000 / pr := by omega
            have hq5 : ¬ (1000000000000000 / pr < t.q) := by omega
            have pz : (pr == 0) = false := by simpa using (show ¬ pr = 0 by omega)
            clear h3
            go_enter Tryd.func14, Tryd.ntmps14
            obtain ⟨_, c0, c1, c2, c3, c4, c5, c6, c7⟩ := HB.out
            go_wp2_with fail
            refine ((CK _ (S.out.keep HR.out)).out).mono ?_
            rintro e x1 ⟨rfl, hb⟩
            have HB := hide (HB.out.keep hb)
            have H4 := hide (H4.out.keep hb)
            have HR := hide (HR.out.trans (hb.mono HR.out.size))
            clear hb c0 c1 c2 c3 c4 c5 c6 c7
            go_wp2_with fail
            refine ((AM _).out).mono ?_
            rintro e x2 ⟨rfl, rfl⟩
            obtain ⟨_, c0, c1, c2, c3, c4, c5, c6, c7⟩ := HB.out
            go_wp2_with fail
            go_region
            clear c0 c1 c2 c3 c4 c5 c6 c7
            have hb : Below x1.heap.size x1 x1.drew := (Below.refl _ _).drew
            have HB := hide (HB.out.keep hb)
            have H4 := hide (H4.out.keep hb)
            have HR := hide (HR.out.trans (hb.mono HR.out.size))
            clear hb
            generalize x1.drew = x3 at *
            obtain ⟨_, c0, c1, c2, c3, c4, c5, c6, c7⟩ := HB.out
            go_wp2_with fail
            refine ((CH _ _).out).mono ?_
            rintro e x4 ⟨rfl, hb⟩
            have H4 := hide (H4.out.keep hb)
            have HR := hide (HR.out.trans (hb.mono HR.out.size))
            clear hb c0 c1 c2 c3 c4 c5 c6 c7
            obtain ⟨_, f0, f1, f2, f3, zf⟩ := H4.out
            dsimp only [zC] at f0 f1 f2 f3
            go_wp2_with fail
            exact bodyPost_ret (v := .tuple #[.agg #[.string (chC t (max (t.q * pr - am) 0)).rf, .string (chC t (max (t.q * pr - am) 0)).fr, .string (chC t (max (t.q * pr - am) 0)).to, .int .i64 (chC t (max (t.q * pr - am) 0)).x], .int .i64 0]) (by simp [results, Tryd.results14, go_sem, f0, f1, f2, f3, zf]) rfl ⟨rfl, ((((HR.out.setCell (by simp; try omega) _).setCell (by simp; try omega) _).setCell (by simp; try omega) _).setCell (by simp; try omega) _)⟩
          · have h5 : pr ≤ 0 := by omega
            have d5 : decide (0 < pr) = false := decide_eq_false (by omega)
            clear h3 h4
            go_enter Tryd.func14, Tryd.ntmps14
            obtain ⟨_, c0, c1, c2, c3, c4, c5, c6, c7⟩ := HB.out
            go_wp2_with fail
            refine ((CK _ (S.out.keep HR.out)).out).mono ?_
            rintro e x1 ⟨rfl, hb⟩
            have HB := hide (HB.out.keep hb)
            have H4 := hide (H4.out.keep hb)
            have HR := hide (HR.out.trans (hb.mono HR.out.size))
            clear hb c0 c1 c2 c3 c4 c5 c6 c7
            go_wp2_with fail
            refine ((AM _).out).mono ?_
            rintro e x2 ⟨rfl, rfl⟩
            obtain ⟨_, c0, c1, c2, c3, c4, c5, c6, c7⟩ := HB.out
            go_wp2_with fail
            go_region
            clear c0 c1 c2 c3 c4 c5 c6 c7
            have hb : Below x1.heap.size x1 x1.drew := (Below.refl _ _).drew
            have HB := hide (HB.out.keep hb)
            have H4 := hide (H4.out.keep hb)
            have HR := hide (HR.out.trans (hb.mono HR.out.size))
            clear hb
            generalize x1.drew = x3 at *
            obtain ⟨_, c0, c1, c2, c3, c4, c5, c6, c7⟩ := HB.out
            go_wp2_with fail
            refine ((CH _ _).out).mono ?_
            rintro e x4 ⟨rfl, hb⟩
            have H4 := hide (H4.out.keep hb)
            have HR := hide (HR.out.trans (hb.mono HR.out.size))
            clear hb c0 c1 c2 c3 c4 c5 c6 c7
            obtain ⟨_, f0, f1, f2, f3, zf⟩ := H4.out
            dsimp only [zC] at f0 f1 f2 f3
            go_wp2_with fail
            exact bodyPost_ret (v := .tuple #[.agg #[.string (chC t (max (t.q * pr - am) 0)).rf, .string (chC t (max (t.q * pr - am) 0)).fr, .string (chC t (max (t.q * pr - am) 0)).to, .int .i64 (chC t (max (t.q * pr - am) 0)).x], .int .i64 0]) (by simp [results, Tryd.results14, go_sem, f0, f1, f2, f3, zf]) rfl ⟨rfl, ((((HR.out.setCell (by simp; try omega) _).setCell (by simp; try omega) _).setCell (by simp; try omega) _).setCell (by simp; try omega) _)⟩
  · have e : coE t am pr = cE t := by unfold coE; rw [if_pos hE]
    have ec : coC t am pr = zC := by unfold coC; rw [e]; exact if_neg hE
    rw [e, ec]
    have e1 : (cE t != 0) = true := by simpa using hE
    generalize cE t = E at *
    clear hE e ec h
    go_enter Tryd.func14, Tryd.ntmps14
    obtain ⟨_, c0, c1, c2, c3, c4, c5, c6, c7⟩ := HB.out
    go_wp2_with fail
    refine ((CK _ (S.out.keep HR.out)).out).mono ?_
    rintro e x1 ⟨rfl, hb⟩
    have HB := hide (HB.out.keep hb)
    have H4 := hide (H4.out.keep hb)
    have HR := hide (HR.out.trans (hb.mono HR.out.size))
    clear hb c0 c1 c2 c3 c4 c5 c6 c7
    obtain ⟨_, f0, f1, f2, f3, zf⟩ := H4.out
    dsimp only [zC] at f0 f1 f2 f3
    go_wp2_with fail
    exact bodyPost_ret (v := .tuple #[.agg #[.string ⟨#[]⟩, .string ⟨#[]⟩, .string ⟨#[]⟩, .int .i64 0], .int .i64 E]) (by simp [results, Tryd.results14, go_sem, f0, f1, f2, f3, zf]) rfl ⟨rfl, ((((HR.out.setCell (by simp; try omega) _).setCell (by simp; try omega) _).setCell (by simp; try omega) _).setCell (by simp; try omega) _)⟩
end Go.Proofs.YtkmpmegiiaamdaaDoor
