/-
  Exposure.
-/
import Derived.Test.YtjjaemobgfconaaDoorED
import Derived.Test.YtjjaemobgfconaaDoorRefMd
import Derived.WalkKit
import Derived.Deep.QuietTactic
import Derived.BigQuiet
import Derived.Laws.EntriesVeiled
import Derived.Lib.MinMax
import Derived.Deep.Light
namespace Go.Proofs.YtjjaemobgfconaaDoor
open Go.RowKit
set_option linter.unusedVariables false
set_option linter.unusedSimpArgs false
set_option linter.unnecessarySimpa false

theorem q_of {t : Ag} (h : tmE t = 0) : 1 ≤ t.q ∧ t.q ≤ 1000000000000000 := by
  unfold tmE at h
  split at h
  · cases h
  · omega
/-- What Exposure answers. -/
def exE (t : Ag) (day p : Int) : Int := if inE t day ≠ 0 then inE t day else if p < 1 ∨ 1000000000 < p then 2 else if 1000000000000000 < t.q * p then 12 else 0
def exV (t : Ag) (day p : Int) : Int := if exE t day p ≠ 0 then 0 else t.c + inV t day - t.q * p
theorem mdQ_one {q p : Int} (hq : 1 ≤ q) (hp : 1 ≤ p) : mdQ q p 1 0 = q * p := by
  have h0 : 0 ≤ q * p := Int.mul_nonneg (by omega) (by omega)
  have e1 : negB q p = false := by unfold negB; rw [decide_eq_false (by omega), decide_eq_false (by omega)]; rfl
  have e2 : absP q p = q * p := by unfold absP; rw [show (q.natAbs : Int) = q by omega, show (p.natAbs : Int) = p by omega]
  unfold mdQ
  rw [e1, e2, Int.ediv_one, Int.emod_one]
  unfold rnd upB
  simp
theorem md_one {q p : Int} (hq : 1 ≤ q) (hq2 : q ≤ 1000000000000000) (hp : 1 ≤ p) (hp2 : p ≤ 1000000000) : mdE q p 1 0 = (if 1000000000000000 < q * p then 12 else 0) ∧ (¬ 1000000000000000 < q * p → mdV q p 1 0 = q * p) := by
  have h0 : 0 ≤ q * p := Int.mul_nonneg (by omega) (by omega)
  have hA : okArgs q p 1 := ⟨by unfold okA; omega, by unfold okA; omega, by omega, by omega⟩
  have e : mdE q p 1 0 = if 1000000000000000 < q * p then 12 else 0 := by
    unfold mdE
    rw [if_neg (by omega), if_pos hA, mdQ_one hq hp]
    by_cases h : 1000000000000000 < q * p
    · rw [if_neg (show ¬ okA (q * p) from fun hk => by unfold okA at hk; omega), if_pos h]
    · rw [if_pos (show okA (q * p) from by unfold okA; omega), if_neg h]
  refine ⟨e, fun h => ?_⟩
  unfold mdV
  rw [if_pos (by rw [e, if_neg h]), mdQ_one hq hp]
theorem in_ok {t : Ag} {day : Int} (h : inE t day = 0) : agE t = 0 ∧ t.op ≤ day ∧ day ≤ t.cl := by
  unfold inE at h
  split at h
  · rename_i h1; exact absurd h h1
  · rename_i h1
    split at h
    · cases h
    · exact ⟨by simpa using h1, by omega, by omega⟩
theorem in_facts {t : Ag} {day : Int} (h : inE t day = 0) : 1 ≤ t.q ∧ t.q ≤ 1000000000000000 ∧ 1 ≤ t.c ∧ t.c ≤ 1000000000000000 ∧ 0 ≤ inV t day ∧ inV t day ≤ 1200000000000001 := by
  obtain ⟨hz, h1, h2⟩ := in_ok h
  obtain ⟨z0, z1, z2, z3⟩ := ag_ok hz
  have hd := day_of z2
  have hq := q_of z1
  have hF := fit_of z1
  have hb := iV_bd hF (k := day - t.op) (by omega) (by omega)
  have e : inV t day = iV t (day - t.op) := by unfold inV; rw [if_neg (by rw [h]; decide)]
  rw [e]
  exact ⟨hq.1, hq.2, hF.c1, hF.c2, hb.1, hb.2⟩
set_option maxHeartbeats 4000000 in
set_option maxRecDepth 20000 in
theorem expo_any (t : Ag) (day p : Int) (w : World) (S : Shp w) (h : t.Ok) (w1 : -9223372036854775808 ≤ day) (w2 : day ≤ 9223372036854775807) : Calls Tryd.prog 22 #[.agg #[.string t.rf, .string t.se, .string t.bu, .string t.sn, .int .i64 t.q, .int .i64 t.c, .int .i64 t.n, .int .i64 t.d, .int .i64 t.op, .int .i64 t.cl], .int .i64 day, .int .i64 p] w fun e w' => e = .returned (.tuple #[.int .i64 (exV t day p), .int .i64 (exE t day p)]) ∧ Below w.heap.size w w' := by
  have S := hide S
  have CK := fun w S => hide (interest_any t day w S h w1 w2)
  clear h w1 w2
  have HR := hide (one_alloc w (Obj.cells #[.string t.rf, .string t.se, .string t.bu, .string t.sn, .int .i64 t.q, .int .i64 t.c, .int .i64 t.n, .int .i64 t.d, .int .i64 t.op, .int .i64 t.cl] 28))
  have HB := hide (RB.new t w 28)
  by_cases hz : inE t day = 0
  · obtain ⟨q1, q2, c1, c2, u1, u2⟩ := in_facts hz
    have hE := hide (show exE t day p = if p < 1 ∨ 1000000000 < p then 2 else if 1000000000000000 < t.q * p then 12 else 0 by unfold exE; rw [if_neg (by rw [hz]; decide)])
    have hV := hide (show exV t day p = if exE t day p ≠ 0 then 0 else t.c + inV t day - t.q * p from rfl)
    rw [hz] at CK
    generalize exE t day p = E at *
    generalize exV t day p = V at *
    generalize inV t day = U at *
    clear hz
    by_cases g1 : p < 1
    · obtain rfl : E = 2 := by rw [hE.out, if_pos (.inl g1)]
      obtain rfl : V = 0 := by rw [hV.out, if_pos (by decide)]
      clear hE hV
      go_enter Tryd.func22, Tryd.ntmps22
      obtain ⟨_, c0, c1, c2, c3, c4, c5, c6, c7, c8, c9⟩ := HB.out
      go_wp2_with fail
      refine ((CK _ (S.out.keep HR.out)).out).mono ?_
      rintro e x ⟨rfl, hb⟩
      have HB := hide (HB.out.keep hb)
      have HR := hide (HR.out.trans (hb.mono HR.out.size))
      clear hb c0 c1 c2 c3 c4 c5 c6 c7 c8 c9
      obtain ⟨_, c0, c1, c2, c3, c4, c5, c6, c7, c8, c9⟩ := HB.out
      go_wp2_with fail
      go_ret2
      exact ⟨rfl, HR.out⟩
    · by_cases g2 : 1000000000 < p
      · obtain rfl : E = 2 := by rw [hE.out, if_pos (.inr g2)]
        obtain rfl : V = 0 := by rw [hV.out, if_pos (by decide)]
        clear hE hV
        go_enter Tryd.func22, Tryd.ntmps22
        obtain ⟨_, c0, c1, c2, c3, c4, c5, c6, c7, c8, c9⟩ := HB.out
        go_wp2_with fail
        refine ((CK _ (S.out.keep HR.out)).out).mono ?_
        rintro e x ⟨rfl, hb⟩
        have HB := hide (HB.out.keep hb)
        have HR := hide (HR.out.trans (hb.mono HR.out.size))
        clear hb c0 c1 c2 c3 c4 c5 c6 c7 c8 c9
        obtain ⟨_, c0, c1, c2, c3, c4, c5, c6, c7, c8, c9⟩ := HB.out
        go_wp2_with fail
        go_ret2
        exact ⟨rfl, HR.out⟩
      · have p1 : 1 ≤ p := by omega
        have p2 : p ≤ 1000000000 := by omega
        have p3 : ¬ p = 0 := by omega
        have hp0 : 0 ≤ t.q * p := Int.mul_nonneg (by omega) (by omega)
        have hpm : t.q * p ≤ 1000000000000000000000000 := by
          have h1 : t.q * p ≤ t.q * 1000000000 := Int.mul_le_mul_of_nonneg_left p2 (by omega)
          omega
        obtain ⟨Z, hZ⟩ : ∃ Z, Z = 1000000000000000 / p := ⟨_, rfl⟩
        have hZ1 : 0 ≤ Z := by rw [hZ]; exact Int.ediv_nonneg (by omega) (by omega)
        have hZ2 : Z ≤ 1000000000000000 := by rw [hZ]; exact Int.ediv_le_self _ (by omega)
        have hZ3 : (1000000000000000 : Int).tdiv p = Z := by rw [hZ, Int.tdiv_eq_ediv_of_nonneg (by omega)]
        have hZ5 : (1000000000000000 : Int) / p = Z := hZ.symm
        have hiff : Z < t.q ↔ 1000000000000000 < t.q * p := by rw [hZ]; exact Int.ediv_lt_iff_lt_mul (by omega)
        have hpe : (p == 0) = false := by simpa using p3
        clear hZ
        by_cases g3 : 1000000000000000 < t.q * p
        · obtain rfl : E = 12 := by rw [hE.out, if_neg (by omega), if_pos g3]
          obtain rfl : V = 0 := by rw [hV.out, if_pos (by decide)]
          have hlt : Z < t.q := hiff.2 g3
          clear hE hV hiff hpm g3 hp0
          go_enter Tryd.func22, Tryd.ntmps22
          obtain ⟨_, c0, c1, c2, c3, c4, c5, c6, c7, c8, c9⟩ := HB.out
          go_wp2_with fail
          refine ((CK _ (S.out.keep HR.out)).out).mono ?_
          rintro e x ⟨rfl, hb⟩
          have HB := hide (HB.out.keep hb)
          have HR := hide (HR.out.trans (hb.mono HR.out.size))
          clear hb c0 c1 c2 c3 c4 c5 c6 c7 c8 c9
          obtain ⟨_, c0, c1, c2, c3, c4, c5, c6, c7, c8, c9⟩ := HB.out
          go_wp2_with fail
          go_quiet (fail)
          go_wp2_with fail
          go_ret2
          exact ⟨rfl, below_drewN HR.out _⟩
        · obtain rfl : E = 0 := by rw [hE.out, if_neg (by omega), if_neg g3]
          obtain rfl : V = t.c + U - t.q * p := by rw [hV.out, if_neg (by decide)]
          have hlt : ¬ Z < t.q := fun h => g3 (hiff.1 h)
          obtain ⟨P, hP⟩ : ∃ P, t.q * p = P := ⟨_, rfl⟩
          rw [hP] at g3 hp0 ⊢
          have hPm : P ≤ 1000000000000000 := by omega
          clear hE hV hiff hpm g3
          go_enter Tryd.func22, Tryd.ntmps22
          obtain ⟨_, c0, c1, c2, c3, c4, c5, c6, c7, c8, c9⟩ := HB.out
          go_wp2_with fail
          refine ((CK _ (S.out.keep HR.out)).out).mono ?_
          rintro e x ⟨rfl, hb⟩
          have HB := hide (HB.out.keep hb)
          have HR := hide (HR.out.trans (hb.mono HR.out.size))
          clear hb c0 c1 c2 c3 c4 c5 c6 c7 c8 c9
          obtain ⟨_, c0, c1, c2, c3, c4, c5, c6, c7, c8, c9⟩ := HB.out
          go_wp2_with fail
          go_quiet (fail)
          go_wp2_with fail
          go_ret2
          exact ⟨rfl, below_drewN HR.out _⟩
  · have e1 : exE t day p = inE t day := by unfold exE; rw [if_pos hz]
    have e2 : exV t day p = 0 := by unfold exV; rw [if_pos (by rw [e1]; exact hz)]
    rw [e1, e2]
    have hz' : (inE t day != 0) = true := by simpa using hz
    generalize inE t day = E at *
    generalize inV t day = U at *
    clear e1 e2 hz
    go_enter Tryd.func22, Tryd.ntmps22
    obtain ⟨_, c0, c1, c2, c3, c4, c5, c6, c7, c8, c9⟩ := HB.out
    go_wp2_with fail
    refine ((CK _ (S.out.keep HR.out)).out).mono ?_
    rintro e x ⟨rfl, hb⟩
    have HB := hide (HB.out.keep hb)
    have HR := hide (HR.out.trans (hb.mono HR.out.size))
    clear hb c0 c1 c2 c3 c4 c5 c6 c7 c8 c9
    obtain ⟨_, c0, c1, c2, c3, c4, c5, c6, c7, c8, c9⟩ := HB.out
    go_wp2_with fail
    go_ret2
    exact ⟨rfl, HR.out⟩
set_option maxHeartbeats 4000000 in
set_option maxRecDepth 20000 in
theorem rexpo_any (t : Ag) (day p : Int) (w : World) (h : t.Ok) (w1 : -9223372036854775808 ≤ day) (w2 : day ≤ 9223372036854775807) : Calls Tryd.prog 23 #[.agg #[.string t.rf, .string t.se, .string t.bu, .string t.sn, .int .i64 t.q, .int .i64 t.c, .int .i64 t.n, .int .i64 t.d, .int .i64 t.op, .int .i64 t.cl], .int .i64 day, .int .i64 p] w fun e w' => e = .returned (.tuple #[.int .i64 (exV t day p), .int .i64 (exE t day p)]) ∧ Below w.heap.size w w' := by
  have CK := fun w => hide (rinterest_any t day w h w1 w2)
  clear h w1 w2
  have HR := hide (one_alloc w (Obj.cells #[.string t.rf, .string t.se, .string t.bu, .string t.sn, .int .i64 t.q, .int .i64 t.c, .int .i64 t.n, .int .i64 t.d, .int .i64 t.op, .int .i64 t.cl] 25))
  have HB := hide (RB.new t w 25)
  by_cases hz : inE t day = 0
  · obtain ⟨q1, q2, c1, c2, u1, u2⟩ := in_facts hz
    have hE := hide (show exE t day p = if p < 1 ∨ 1000000000 < p then 2 else if 1000000000000000 < t.q * p then 12 else 0 by unfold exE; rw [if_neg (by rw [hz]; decide)])
    have hV := hide (show exV t day p = if exE t day p ≠ 0 then 0 else t.c + inV t day - t.q * p from rfl)
    rw [hz] at CK
    generalize exE t day p = E at *
    generalize exV t day p = V at *
    generalize inV t day = U at *
    clear hz
    by_cases g1 : p < 1
    · obtain rfl : E = 2 := by rw [hE.out, if_pos (.inl g1)]
      obtain rfl : V = 0 := by rw [hV.out, if_pos (by decide)]
      clear hE hV
      go_enter Tryd.func23, Tryd.ntmps23
      obtain ⟨_, c0, c1, c2, c3, c4, c5, c6, c7, c8, c9⟩ := HB.out
      go_wp2_with fail
      refine ((CK _).out).mono ?_
      rintro e x ⟨rfl, hb⟩
      have HB := hide (HB.out.keep hb)
      have HR := hide (HR.out.trans (hb.mono HR.out.size))
      clear hb c0 c1 c2 c3 c4 c5 c6 c7 c8 c9
      obtain ⟨_, c0, c1, c2, c3, c4, c5, c6, c7, c8, c9⟩ := HB.out
      go_wp2_with fail
      go_ret2
      exact ⟨rfl, HR.out⟩
    · by_cases g2 : 1000000000 < p
      · obtain rfl : E = 2 := by rw [hE.out, if_pos (.inr g2)]
        obtain rfl : V = 0 := by rw [hV.out, if_pos (by decide)]
        clear hE hV
        go_enter Tryd.func23, Tryd.ntmps23
        obtain ⟨_, c0, c1, c2, c3, c4, c5, c6, c7, c8, c9⟩ := HB.out
        go_wp2_with fail
        refine ((CK _).out).mono ?_
        rintro e x ⟨rfl, hb⟩
        have HB := hide (HB.out.keep hb)
        have HR := hide (HR.out.trans (hb.mono HR.out.size))
        clear hb c0 c1 c2 c3 c4 c5 c6 c7 c8 c9
        obtain ⟨_, c0, c1, c2, c3, c4, c5, c6, c7, c8, c9⟩ := HB.out
        go_wp2_with fail
        go_ret2
        exact ⟨rfl, HR.out⟩
      · have p1 : 1 ≤ p := by omega
        have p2 : p ≤ 1000000000 := by omega
        have p3 : ¬ p = 0 := by omega
        have hp0 : 0 ≤ t.q * p := Int.mul_nonneg (by omega) (by omega)
        have hpm : t.q * p ≤ 1000000000000000000000000 := by
          have h1 : t.q * p ≤ t.q * 1000000000 := Int.mul_le_mul_of_nonneg_left p2 (by omega)
          omega
        have MD := fun w => hide (refmd_any t.q p 1 0 w)
        unfold MdPost at MD
        obtain ⟨m1, m2⟩ := md_one q1 q2 p1 p2
        by_cases g3 : 1000000000000000 < t.q * p
        · obtain rfl : E = 12 := by rw [hE.out, if_neg (by omega), if_pos g3]
          obtain rfl : V = 0 := by rw [hV.out, if_pos (by decide)]
          rw [m1, if_pos g3] at MD
          generalize mdV t.q p 1 0 = MV at *
          clear hE hV hpm g3 hp0 m1 m2
          go_enter Tryd.func23, Tryd.ntmps23
          obtain ⟨_, c0, c1, c2, c3, c4, c5, c6, c7, c8, c9⟩ := HB.out
          go_wp2_with fail
          refine ((CK _).out).mono ?_
          rintro e x ⟨rfl, hb⟩
          have HB := hide (HB.out.keep hb)
          have HR := hide (HR.out.trans (hb.mono HR.out.size))
          clear hb c0 c1 c2 c3 c4 c5 c6 c7 c8 c9
          obtain ⟨_, c0, c1, c2, c3, c4, c5, c6, c7, c8, c9⟩ := HB.out
          go_wp2_with fail
          refine ((MD _).out).mono ?_
          rintro e x2 ⟨rfl, n, rfl⟩
          go_wp2_with fail
          go_ret2
          exact ⟨rfl, below_drewN HR.out _⟩
        · obtain rfl : E = 0 := by rw [hE.out, if_neg (by omega), if_neg g3]
          obtain rfl : V = t.c + U - t.q * p := by rw [hV.out, if_neg (by decide)]
          rw [m1, if_neg g3, m2 g3] at MD
          obtain ⟨P, hP⟩ : ∃ P, t.q * p = P := ⟨_, rfl⟩
          rw [hP] at g3 hp0 MD ⊢
          have hPm : P ≤ 1000000000000000 := by omega
          clear hE hV hpm g3 m1 m2
          go_enter Tryd.func23, Tryd.ntmps23
          obtain ⟨_, c0, c1, c2, c3, c4, c5, c6, c7, c8, c9⟩ := HB.out
          go_wp2_with fail
          refine ((CK _).out).mono ?_
          rintro e x ⟨rfl, hb⟩
          have HB := hide (HB.out.keep hb)
          have HR := hide (HR.out.trans (hb.mono HR.out.size))
          clear hb c0 c1 c2 c3 c4 c5 c6 c7 c8 c9
          obtain ⟨_, c0, c1, c2, c3, c4, c5, c6, c7, c8, c9⟩ := HB.out
          go_wp2_with fail
          refine ((MD _).out).mono ?_
          rintro e x2 ⟨rfl, n, rfl⟩
          have HB := hide (show RB w.heap.size t (x.drewN n) from ⟨HB.out.lt, HB.out.c0, HB.out.c1, HB.out.c2, HB.out.c3, HB.out.c4, HB.out.c5, HB.out.c6, HB.out.c7, HB.out.c8, HB.out.c9⟩)
          clear c0 c1 c2 c3 c4 c5 c6 c7 c8 c9
          obtain ⟨_, c0, c1, c2, c3, c4, c5, c6, c7, c8, c9⟩ := HB.out
          go_wp2_with fail
          go_ret2
          exact ⟨rfl, below_drewN HR.out _⟩
  · have e1 : exE t day p = inE t day := by unfold exE; rw [if_pos hz]
    have e2 : exV t day p = 0 := by unfold exV; rw [if_pos (by rw [e1]; exact hz)]
    rw [e1, e2]
    have hz' : (inE t day != 0) = true := by simpa using hz
    generalize inE t day = E at *
    generalize inV t day = U at *
    clear e1 e2 hz
    go_enter Tryd.func23, Tryd.ntmps23
    obtain ⟨_, c0, c1, c2, c3, c4, c5, c6, c7, c8, c9⟩ := HB.out
    go_wp2_with fail
    refine ((CK _).out).mono ?_
    rintro e x ⟨rfl, hb⟩
    have HB := hide (HB.out.keep hb)
    have HR := hide (HR.out.trans (hb.mono HR.out.size))
    clear hb c0 c1 c2 c3 c4 c5 c6 c7 c8 c9
    obtain ⟨_, c0, c1, c2, c3, c4, c5, c6, c7, c8, c9⟩ := HB.out
    go_wp2_with fail
    go_ret2
    exact ⟨rfl, HR.out⟩

end Go.Proofs.YtjjaemobgfconaaDoor
