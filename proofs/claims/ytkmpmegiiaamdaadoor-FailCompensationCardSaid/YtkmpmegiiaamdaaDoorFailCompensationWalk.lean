/-
  The walk of FailCompensation.
-/
import Derived.Test.YtkmpmegiiaamdaaDoorG7
import Derived.Test.YtkmpmegiiaamdaaDoorFailCheckWalk
namespace Go.Proofs.YtkmpmegiiaamdaaDoor
open Go.RowKit
set_option linter.unusedVariables false
set_option linter.unusedSimpArgs false
set_option linter.unnecessarySimpa false

theorem cE_flip {t : Cs} (h : cE t = 0) : cE (⟨t.rf, t.d, t.r, t.a, t.q, t.v, t.sd, 1 - t.ft⟩ : Cs) = 0 := by
  have hf := cE_ft h
  have k : (decide (1 - t.ft = 0) || decide (1 - t.ft = 1)) = (decide (t.ft = 0) || decide (t.ft = 1)) := by rcases hf with hf | hf <;> rw [hf] <;> rfl
  unfold cE at h ⊢
  dsimp only
  rw [k]
  exact h
theorem co_pair {t : Cs} {am pr : Int} (h : coE t am pr = 0) : ∃ (F G : ByteArray) (X Y : Int), coC t am pr = ⟨t.rf, F, G, X⟩ ∧ coC (⟨t.rf, t.d, t.r, t.a, t.q, t.v, t.sd, 1 - t.ft⟩ : Cs) am pr = ⟨t.rf, G, F, Y⟩ ∧ coE (⟨t.rf, t.d, t.r, t.a, t.q, t.v, t.sd, 1 - t.ft⟩ : Cs) am pr = 0 ∧ 0 ≤ X ∧ (X = 0 ∨ Y = 0) ∧ X + Y = max (t.q * pr - am) (-(t.q * pr - am)) ∧ X ≤ 1000000000000000 ∧ 0 ≤ Y ∧ Y ≤ 1000000000000000 ∧ 0 ≤ t.q * pr ∧ t.q * pr ≤ 1000000000000000 ∧ 0 ≤ am ∧ am ≤ 1000000000000000 ∧ (t.ft = 0 ∨ t.ft = 1) := by
  have hE : cE t = 0 := by
    by_cases k : cE t = 0
    · exact k
    · unfold coE at h; rw [if_pos k] at h; exact h
  have hb : ¬ (amB am = false ∨ pr < 0 ∨ 1000000000 < pr) := fun k => by
    unfold coE at h; rw [if_neg (fun q => q hE), if_pos k] at h; exact absurd h (by decide)
  have h3 : ¬ (0 < pr ∧ 1000000000000000 / pr < t.q) := fun k => by
    unfold coE at h; rw [if_neg (fun q => q hE), if_neg hb, if_pos k] at h; exact absurd h (by decide)
  obtain ⟨q1, q2⟩ := cE_num hE
  have hf := cE_ft hE
  have hA : amB am = true := by cases hA : amB am with | true => rfl | false => exact absurd (.inl hA) hb
  unfold amB at hA
  simp only [Bool.and_eq_true, decide_eq_true_eq] at hA
  obtain ⟨a1, a2⟩ := hA
  have h1 : 0 ≤ pr := by omega
  have P0 : 0 ≤ t.q * pr := Int.mul_nonneg (by omega) h1
  have P1 : t.q * pr ≤ 1000000000000000 := by
    by_cases h4 : 0 < pr
    · have h5 : t.q ≤ 1000000000000000 / pr := by omega
      exact Int.le_trans (Int.mul_le_mul_of_nonneg_right h5 h1) (Int.ediv_mul_le _ (by omega))
    · have : pr = 0 := by omega
      rw [this]; omega
  have hd : coE (⟨t.rf, t.d, t.r, t.a, t.q, t.v, t.sd, 1 - t.ft⟩ : Cs) am pr = 0 := by unfold coE; rw [if_neg (fun q => q (cE_flip hE)), if_neg hb, if_neg h3]
  have c1 : coC t am pr = chC t (coX t am pr) := if_pos h
  have c2 : coC (⟨t.rf, t.d, t.r, t.a, t.q, t.v, t.sd, 1 - t.ft⟩ : Cs) am pr = chC (⟨t.rf, t.d, t.r, t.a, t.q, t.v, t.sd, 1 - t.ft⟩ : Cs) (coX (⟨t.rf, t.d, t.r, t.a, t.q, t.v, t.sd, 1 - t.ft⟩ : Cs) am pr) := if_pos hd
  clear h hb h3 hE
  rcases hf with hf | hf
  · refine ⟨t.d, t.r, max (t.q * pr - am) 0, max (-(t.q * pr - am)) 0, ?_, ?_, hd, by omega, by omega, by omega, by omega, by omega, by omega, P0, P1, a1, a2, .inl hf⟩
    · rw [c1]; unfold coX chC; rw [if_pos hf, if_neg (by omega)]
    · rw [c2]; unfold coX chC; dsimp only; rw [if_neg (by omega), if_pos (by omega)]
  · refine ⟨t.r, t.d, max (-(t.q * pr - am)) 0, max (t.q * pr - am) 0, ?_, ?_, hd, by omega, by omega, by omega, by omega, by omega, by omega, P0, P1, a1, a2, .inr hf⟩
    · rw [c1]; unfold coX chC; rw [if_neg (by omega), if_pos (by omega)]
    · rw [c2]; unfold coX chC; dsimp only; rw [if_pos (by omega), if_neg (by omega)]
theorem neq43 (a b c : ByteArray) (x : Int) (w : World) : (binOp .neq 43 (.agg #[.string a, .string b, .string c, .int .i64 x]) (.agg #[.string a, .string b, .string c, .int .i64 x])).run Tryd.prog w = .ok (.bool false) w := by
  have hS : Tryd.prog.underlying 43 = some (.struct (Tryd.prog.fieldsOf 43)) := by kernel_rfl
  have hp : Tryd.prog.stoodInHeld 43 = false := by kernel_rfl
  have u9 := Tryd.underlying9
  have u2 := Tryd.underlying2
  rw [run_neq_struct, show (10000 : Nat) = 9999 + 1 from rfl, run_equalIn_agg w 9999 43 _ _ hS hp]
  simp only [Program.fieldsOf, Tryd.underlying43]
  go_simp
set_option maxHeartbeats 16000000 in
set_option maxRecDepth 20000 in
theorem failCompensation_walk (t : Cs) (am pr : Int) (w : World) (h : t.Ok) (ha : -9223372036854775808 ≤ am ∧ am ≤ 9223372036854775807) (hp : -9223372036854775808 ≤ pr ∧ pr ≤ 9223372036854775807) (hL : laidMetH Tryd.prog laid w) :
    Calls Tryd.prog 6 #[.agg #[.string t.rf, .string t.d, .string t.r, .string t.a, .int .i64 t.q, .int .i64 t.v, .int .i64 t.sd, .int .i64 t.ft], .int .i64 am, .int .i64 pr] w fun e w' => e = .returned (.bool true) ∧ Below w.heap.size w w' := by
  have S := hide (shp_of hL)
  have OW := fun t w => hide (own_any t w)
  have RC := fun w => hide (rcomp_any t am pr w h ha hp)
  have CO := fun w S => hide (comp_any t am pr w S h ha hp)
  have KN := fun w S => hide (known_any w S)
  have HR := hide (one_alloc w (Obj.cells #[.string t.rf, .string t.d, .string t.r, .string t.a, .int .i64 t.q, .int .i64 t.v, .int .i64 t.sd, .int .i64 t.ft] 23))
  have HB := hide (TB.new t w 23)
  by_cases hE : coE t am pr = 0
  · obtain ⟨F, G, X, Y, e1, e2, e3, x0, xy, s, x9, y0, y9, P0, P1, a0, a9, hf⟩ := co_pair hE
    have hf1 : 0 ≤ t.ft ∧ t.ft ≤ 1 := by omega
    have CD := fun w S => hide (comp_any (⟨t.rf, t.d, t.r, t.a, t.q, t.v, t.sd, 1 - t.ft⟩ : Cs) am pr w S ⟨h.q, h.v, h.sd, ⟨by dsimp only; omega, by dsimp only; omega⟩, h.rf, h.d, h.r, h.a⟩ ha hp)
    have OD := fun w => hide (own_any (⟨t.rf, t.d, t.r, t.a, t.q, t.v, t.sd, 1 - t.ft⟩ : Cs) w)
    rw [e1, hE] at CO RC
    rw [e2, e3] at CD
    dsimp only at CO RC CD OD
    have NQ := fun w => neq43 t.rf F G X w
    have w1 : wrap64 (1 - t.ft) = 1 - t.ft := by unfold wrap64; omega
    have w2 : wrap64 (t.q * pr) = t.q * pr := by unfold wrap64; omega
    have w3 : wrap64 (t.q * pr - am) = t.q * pr - am := by unfold wrap64; omega
    have w4 : wrap64 (-(t.q * pr - am)) = -(t.q * pr - am) := by unfold wrap64; omega
    have w5 : wrap64 (X + Y) = X + Y := by unfold wrap64; omega
    have s1 : (X + Y == max (t.q * pr - am) (-(t.q * pr - am))) = true := by simpa using s
    clear hE e1 e2 e3 h ha hp hL hf1 hf
    go_enter Tryd.func6, Tryd.ntmps6
    obtain ⟨_, c0, c1, c2, c3, c4, c5, c6, c7⟩ := HB.out
    go_wp2_with fail
    refine ((OW t _).out).mono ?_
    rintro e x1 ⟨rfl, hb⟩
    have HB := hide (HB.out.keep hb)
    have HR := hide (HR.out.trans (hb.mono HR.out.size))
    clear hb c0 c1 c2 c3 c4 c5 c6 c7
    go_wp2_with fail
    refine ((CO _ (S.out.keep HR.out)).out).mono ?_
    rintro e x2 ⟨rfl, hb⟩
    have HB := hide (HB.out.keep hb)
    have HR := hide (HR.out.trans (hb.mono HR.out.size))
    clear hb
    have HX : Hid (CB x2.heap.size ⟨t.rf, F, G, X⟩ (x2.alloc (Obj.cells #[.string t.rf, .string F, .string G, .int .i64 X] 36))) := hide (CB.new ⟨t.rf, F, G, X⟩ x2 36)
    have hb := one_alloc x2 (Obj.cells #[.string t.rf, .string F, .string G, .int .i64 X] 36)
    have HB := hide (HB.out.keep hb)
    have HR := hide (HR.out.trans (hb.mono HR.out.size))
    clear hb
    obtain ⟨_, c0, c1, c2, c3, c4, c5, c6, c7⟩ := HB.out
    go_wp2_with fail
    clear c0 c1 c2 c3 c4 c5 c6 c7
    generalize x2.alloc (Obj.cells #[.string t.rf, .string F, .string G, .int .i64 X] 36) = Z at *
    generalize x2.heap.size = p at *
    refine ((RC _).out).mono ?_
    rintro e x4 ⟨rfl, hb⟩
    have HB := hide (HB.out.keep hb)
    have HX := hide (HX.out.keep hb)
    have HR := hide (HR.out.trans (hb.mono HR.out.size))
    clear hb
    have HW : Hid (CB x4.heap.size ⟨t.rf, F, G, X⟩ (x4.alloc (Obj.cells #[.string t.rf, .string F, .string G, .int .i64 X] 43))) := hide (CB.new ⟨t.rf, F, G, X⟩ x4 43)
    have hb := one_alloc x4 (Obj.cells #[.string t.rf, .string F, .string G, .int .i64 X] 43)
    have HB := hide (HB.out.keep hb)
    have HX := hide (HX.out.keep hb)
    have HR := hide (HR.out.trans (hb.mono HR.out.size))
    clear hb
    obtain ⟨_, c0, c1, c2, c3, c4, c5, c6, c7⟩ := HB.out
    obtain ⟨_, q0, q1, q2, q3, _⟩ := HX.out
    obtain ⟨_, r0, r1, r2, r3, _⟩ := HW.out
    try dsimp only at q0 q1 q2 q3 r0 r1 r2 r3
    have m7 : ∀ o, ((x4.alloc (Obj.cells #[.string t.rf, .string F, .string G, .int .i64 X] 43)).alloc o).cell? ⟨w.heap.size, 7, none⟩ = some (.int .i64 t.ft) := fun o => (HB.out.keep (one_alloc _ o)).c7
    go_wp2_with fail
    clear c0 c1 c2 c3 c4 c5 c6 c7 q0 q1 q2 q3 r0 r1 r2 r3 m7 HW
    have hb := one_alloc (x4.alloc (Obj.cells #[.string t.rf, .string F, .string G, .int .i64 X] 43)) (Obj.cells #[.string t.rf, .string t.d, .string t.r, .string t.a, .int .i64 t.q, .int .i64 t.v, .int .i64 t.sd, .int .i64 (1 - t.ft)] 23)
    have HB := hide (HB.out.keep hb)
    have HX := hide (HX.out.keep hb)
    have HR := hide (HR.out.trans (hb.mono HR.out.size))
    clear hb
    generalize (x4.alloc (Obj.cells #[.string t.rf, .string F, .string G, .int .i64 X] 43)).alloc (Obj.cells #[.string t.rf, .string t.d, .string t.r, .string t.a, .int .i64 t.q, .int .i64 t.v, .int .i64 t.sd, .int .i64 (1 - t.ft)] 23) = Z3 at *
    refine ((OD _).out).mono ?_
    rintro e x6 ⟨rfl, hb⟩
    have HB := hide (HB.out.keep hb)
    have HX := hide (HX.out.keep hb)
    have HR := hide (HR.out.trans (hb.mono HR.out.size))
    clear hb
    go_wp2_with fail
    refine ((CD _ (S.out.keep HR.out)).out).mono ?_
    rintro e x7 ⟨rfl, hb⟩
    have HB := hide (HB.out.keep hb)
    have HX := hide (HX.out.keep hb)
    have HR := hide (HR.out.trans (hb.mono HR.out.size))
    clear hb
    have HY : Hid (CB x7.heap.size ⟨t.rf, G, F, Y⟩ (x7.alloc (Obj.cells #[.string t.rf, .string G, .string F, .int .i64 Y] 36))) := hide (CB.new ⟨t.rf, G, F, Y⟩ x7 36)
    have hb := one_alloc x7 (Obj.cells #[.string t.rf, .string G, .string F, .int .i64 Y] 36)
    have HB := hide (HB.out.keep hb)
    have HX := hide (HX.out.keep hb)
    have HR := hide (HR.out.trans (hb.mono HR.out.size))
    clear hb
    obtain ⟨_, c0, c1, c2, c3, c4, c5, c6, c7⟩ := HB.out
    obtain ⟨_, q0, q1, q2, q3, _⟩ := HX.out
    obtain ⟨_, r0, r1, r2, r3, _⟩ := HY.out
    dsimp only at q0 q1 q2 q3 r0 r1 r2 r3
    by_cases hx : X = 0
    · have zx : (X == 0) = true := by simpa using hx
      clear hx xy
      go_wp2_with fail
      refine ((KN _ (S.out.keep HR.out)).out).mono ?_
      rintro e x5 ⟨rfl, hb⟩
      go_wp2_with fail
      go_ret
      exact ⟨rfl, HR.out.trans (hb.mono HR.out.size)⟩
    · have zx : (X == 0) = false := by simpa using hx
      have zy : (Y == 0) = true := by simpa using (show Y = 0 by omega)
      clear hx xy
      go_wp2_with fail
      refine ((KN _ (S.out.keep HR.out)).out).mono ?_
      rintro e x5 ⟨rfl, hb⟩
      go_wp2_with fail
      go_ret
      exact ⟨rfl, HR.out.trans (hb.mono HR.out.size)⟩
  · generalize coE t am pr = E at *
    generalize coC t am pr = C at *
    have E1 : (E != 0) = true := by simpa using hE
    have NQ := fun w => neq43 C.rf C.fr C.to C.x w
    clear hE h ha hp hL
    go_enter Tryd.func6, Tryd.ntmps6
    obtain ⟨_, c0, c1, c2, c3, c4, c5, c6, c7⟩ := HB.out
    go_wp2_with fail
    refine ((OW t _).out).mono ?_
    rintro e x1 ⟨rfl, hb⟩
    have HB := hide (HB.out.keep hb)
    have HR := hide (HR.out.trans (hb.mono HR.out.size))
    clear hb c0 c1 c2 c3 c4 c5 c6 c7
    go_wp2_with fail
    refine ((CO _ (S.out.keep HR.out)).out).mono ?_
    rintro e x2 ⟨rfl, hb⟩
    have HB := hide (HB.out.keep hb)
    have HR := hide (HR.out.trans (hb.mono HR.out.size))
    clear hb
    have HX : Hid (CB x2.heap.size C (x2.alloc (Obj.cells #[.string C.rf, .string C.fr, .string C.to, .int .i64 C.x] 36))) := hide (CB.new C x2 36)
    have hb := one_alloc x2 (Obj.cells #[.string C.rf, .string C.fr, .string C.to, .int .i64 C.x] 36)
    have HB := hide (HB.out.keep hb)
    have HR := hide (HR.out.trans (hb.mono HR.out.size))
    clear hb
    obtain ⟨_, c0, c1, c2, c3, c4, c5, c6, c7⟩ := HB.out
    go_wp2_with fail
    clear c0 c1 c2 c3 c4 c5 c6 c7
    generalize x2.alloc (Obj.cells #[.string C.rf, .string C.fr, .string C.to, .int .i64 C.x] 36) = Z at *
    generalize x2.heap.size = p at *
    refine ((RC _).out).mono ?_
    rintro e x4 ⟨rfl, hb⟩
    have HB := hide (HB.out.keep hb)
    have HX := hide (HX.out.keep hb)
    have HR := hide (HR.out.trans (hb.mono HR.out.size))
    clear hb
    have HW : Hid (CB x4.heap.size C (x4.alloc (Obj.cells #[.string C.rf, .string C.fr, .string C.to, .int .i64 C.x] 43))) := hide (CB.new C x4 43)
    have hb := one_alloc x4 (Obj.cells #[.string C.rf, .string C.fr, .string C.to, .int .i64 C.x] 43)
    have HB := hide (HB.out.keep hb)
    have HX := hide (HX.out.keep hb)
    have HR := hide (HR.out.trans (hb.mono HR.out.size))
    clear hb
    obtain ⟨_, c0, c1, c2, c3, c4, c5, c6, c7⟩ := HB.out
    obtain ⟨_, q0, q1, q2, q3, _⟩ := HX.out
    obtain ⟨_, r0, r1, r2, r3, _⟩ := HW.out
    try dsimp only at q0 q1 q2 q3 r0 r1 r2 r3
    go_wp2_with fail
    refine ((KN _ (S.out.keep HR.out)).out).mono ?_
    rintro e x5 ⟨rfl, hb⟩
    go_wp2_with fail
    go_ret
    exact ⟨rfl, HR.out.trans (hb.mono HR.out.size)⟩
end Go.Proofs.YtkmpmegiiaamdaaDoor
