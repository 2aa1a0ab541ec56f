/-
  What the largest part of a trade keeps; the reference's Fits and Many at this translation.
-/
import Derived.Test.YtipgpmjhoaenlaaDoorP10
namespace Go.Proofs.YtipgpmjhoaenlaaDoor
open Go.RowKit
set_option linter.unusedVariables false
set_option linter.unusedSimpArgs false
set_option linter.unnecessarySimpa false

/-- Whether a part is covered. -/
def ftB (t : Tr) (n held room : Int) : Bool := ptB t n && (decide (n ≤ held) && (decide (t.k ≠ 1) || decide (csh t n ≤ room)))
theorem pt_iff {t : Tr} {n : Int} : ptB t n = true ↔ 1 ≤ n ∧ n < t.q ∧ n % t.ml = 0 ∧ (t.k ≠ 1 ∨ 0 < csh t n) := by unfold ptB; simp
theorem ft_iff {t : Tr} {n held room : Int} : ftB t n held room = true ↔ ptB t n = true ∧ n ≤ held ∧ (t.k ≠ 1 ∨ csh t n ≤ room) := by unfold ftB; simp
/-- What is known of a trade that may be split. -/
structure Al (t : Tr) : Prop where
  g : Good t
  e : tE t = 0
  l1 : 1 ≤ t.ml
  l2 : t.ml < t.q
theorem al_of {t : Tr} (h : alB t = true) : Al t := by
  obtain ⟨a, b, c⟩ := alB_iff.1 h
  have g := good_of a
  exact ⟨g, a, (g.la b).1, c⟩
/-- The search's end. -/
theorem lgS_fnd {t : Tr} (A : Al t) (held room : Int) : Fnd (tmB t room) (lgM t held) (lgS t held room) := fnd_sVal _ _ (lgM_bd A.g A.l1).1
theorem mul_dvd (s l : Int) : s * l % l = 0 := Int.mul_emod_left s l
theorem pt_mul {t : Tr} (A : Al t) {s : Int} (s1 : 1 ≤ s) (hq : s * t.ml ≤ t.q - 1) (hc : t.k ≠ 1 ∨ 0 < csh t (s * t.ml)) : ptB t (s * t.ml) = true := by
  refine pt_iff.2 ⟨?_, by omega, mul_dvd _ _, hc⟩
  have := Int.mul_le_mul_of_nonneg_left A.l1 (show 0 ≤ s by omega)
  omega
theorem ft_le {t : Tr} (A : Al t) {s held room : Int} (s1 : 1 ≤ s) (h : ftB t (s * t.ml) held room = true) : s ≤ lgS t held room ∧ ptB t (lgS t held room * t.ml) = true := by
  obtain ⟨hp, hh, hr⟩ := ft_iff.1 h
  obtain ⟨p1, p2, _, p4⟩ := pt_iff.1 hp
  have F := lgS_fnd A held room
  obtain ⟨M0, M1, M2, M3⟩ := lgM_bd (held := held) A.g A.l1
  have hM : s ≤ lgM t held := by
    unfold lgM
    refine (Int.le_ediv_iff_mul_le (by have := A.l1; omega)).2 ?_
    omega
  have hS : s ≤ lgS t held room := by
    by_cases c : lgS t held room < s
    · have y := F.yes (by omega)
      unfold tmB at y
      simp only [Bool.and_eq_true, decide_eq_true_eq] at y
      have m := csh_mono A.g (Int.mul_le_mul_of_nonneg_right (show lgS t held room + 1 ≤ s by omega) (show 0 ≤ t.ml by have := A.l1; omega))
      rcases hr with hr | hr
      · exact absurd y.1 hr
      · omega
    · omega
  refine ⟨hS, pt_mul A (by omega) (Int.le_trans (Int.mul_le_mul_of_nonneg_right F.hi (by have := A.l1; omega)) M2) ?_⟩
  rcases p4 with p4 | p4
  · exact .inl p4
  · have m := csh_mono A.g (Int.mul_le_mul_of_nonneg_right hS (show 0 ≤ t.ml by have := A.l1; omega))
    exact .inr (by omega)
theorem ft_lgS {t : Tr} (A : Al t) {held room : Int} (hp : ptB t (lgS t held room * t.ml) = true) : 1 ≤ lgS t held room ∧ ftB t (lgS t held room * t.ml) held room = true := by
  obtain ⟨p1, p2, _, p4⟩ := pt_iff.1 hp
  have F := lgS_fnd A held room
  have s1 : 1 ≤ lgS t held room := by
    by_cases c : lgS t held room = 0
    · rw [c] at p1; omega
    · have := F.lo; omega
  have a : lgS t held room * t.ml ≤ max (min held (t.q - 1)) 0 := by
    have h1 := Int.mul_le_mul_of_nonneg_right F.hi (show 0 ≤ t.ml by have := A.l1; omega)
    have h2 : lgM t held * t.ml ≤ max (min held (t.q - 1)) 0 := Int.ediv_mul_le _ (by have := A.l1; omega)
    omega
  refine ⟨s1, ft_iff.2 ⟨hp, by omega, ?_⟩⟩
  by_cases k : t.k = 1
  · have n := F.no (lgS t held room - 1) (by omega) (by omega)
    unfold tmB at n
    rw [decide_eq_true k, Bool.true_and] at n
    have n := of_decide_eq_false n
    rw [show lgS t held room - 1 + 1 = lgS t held room by omega] at n
    exact .inr (by omega)
  · exact .inl k
theorem lgE_al {t : Tr} (h : alB t = true) : lgE t = 0 := by
  unfold lgE
  rw [if_neg (fun h1 => h1 (alB_iff.1 h).1), if_neg (by rw [h]; decide)]
theorem lgE_no {t : Tr} (h : alB t = false) : lgE t ≠ 0 := by
  unfold lgE
  by_cases hE : tE t = 0
  · rw [if_neg (fun h => h hE), if_pos h]; decide
  · rw [if_pos hE]; exact hE
theorem lgV_al {t : Tr} (h : alB t = true) (held room : Int) : lgV t held room = if ptB t (lgS t held room * t.ml) = true then lgS t held room * t.ml else 0 := by
  unfold lgV; rw [if_neg (fun h1 => h1 (lgE_al h))]
theorem lgV_bd {t : Tr} (held room : Int) : 0 ≤ lgV t held room ∧ lgV t held room ≤ 1000000000000000 := by
  cases h : alB t
  · unfold lgV; rw [if_pos (lgE_no h)]; omega
  · rw [lgV_al h]
    split
    · rename_i hp
      have A := al_of h
      obtain ⟨p1, p2, _⟩ := pt_iff.1 hp
      have := A.g.q2
      omega
    · omega
theorem lg_mono {t : Tr} {h1 h2 r1 r2 : Int} (hh : h1 ≤ h2) (hr : r1 ≤ r2) : lgV t h1 r1 ≤ lgV t h2 r2 := by
  cases ha : alB t
  · unfold lgV; rw [if_pos (lgE_no ha), if_pos (lgE_no ha)]; omega
  · have b := lgV_bd (t := t) h2 r2
    rw [lgV_al ha h1 r1]
    split
    · rename_i hp
      have A := al_of ha
      obtain ⟨s1, f⟩ := ft_lgS A hp
      obtain ⟨_, f2, f3⟩ := ft_iff.1 f
      have f' : ftB t (lgS t h1 r1 * t.ml) h2 r2 = true := ft_iff.2 ⟨hp, by omega, by rcases f3 with f3 | f3; exact .inl f3; exact .inr (by omega)⟩
      obtain ⟨x, y⟩ := ft_le A s1 f'
      rw [lgV_al ha h2 r2, if_pos y]
      exact Int.mul_le_mul_of_nonneg_right x (by have := A.l1; omega)
    · exact b.1
/-- What the law of the largest part asks. -/
structure Mx (t : Tr) (held room : Int) : Prop where
  fit : lgV t held room ≠ 0 → ftB t (lgV t held room) held room = true
  next : (lgV t held room = 0 → t.k ≠ 1) → ftB t (lgV t held room + t.ml) held room = false
  first : ∀ s, lgV t held room = 0 → ftB t (s * t.ml) held room = false
theorem mx_of {t : Tr} (h : alB t = true) (held room : Int) : Mx t held room := by
  have A := al_of h
  have l1 := A.l1
  have F := lgS_fnd A held room
  refine ⟨fun hn => ?_, fun hk => ?_, fun s hz => ?_⟩
  · rw [lgV_al h] at *
    split at hn
    · rename_i hp
      rw [if_pos hp]
      exact (ft_lgS A hp).2
    · exact absurd rfl hn
  · cases hf : ftB t (lgV t held room + t.ml) held room with
    | false => rfl
    | true =>
      exfalso
      rw [lgV_al h] at hf hk
      split at hf
      · rename_i hp
        rw [if_pos hp] at hk
        obtain ⟨s1, _⟩ := ft_lgS A hp
        rw [show lgS t held room * t.ml + t.ml = (lgS t held room + 1) * t.ml by rw [Int.add_mul, Int.one_mul]] at hf
        have := (ft_le A (by omega) hf).1
        omega
      · rename_i hp
        rw [show (0 : Int) + t.ml = 1 * t.ml by omega] at hf
        exact hp (ft_le A (by omega) hf).2
  · cases hf : ftB t (s * t.ml) held room with
    | false => rfl
    | true =>
      exfalso
      obtain ⟨p, _⟩ := ft_iff.1 hf
      have p1 := (pt_iff.1 p).1
      have s1 : 1 ≤ s := by
        by_cases c : 1 ≤ s
        · exact c
        · have := Int.mul_le_mul_of_nonneg_right (show s ≤ 0 by omega) (show 0 ≤ t.ml by omega)
          omega
      have hp := (ft_le A s1 hf).2
      rw [lgV_al h, if_pos hp] at hz
      have := (pt_iff.1 hp).1
      omega
set_option maxHeartbeats 8000000 in
set_option maxRecDepth 20000 in
theorem fits_any (t : Tr) (n held room : Int) (w : World) (h : t.Ok) (ha : alB t = true) :
    Calls Tryd.prog 24 #[.agg #[.int .i64 t.k, .string t.d, .string t.r, .string t.a, .int .i64 t.q, .int .i64 t.m, .int .i64 t.td, .int .i64 t.sd, .int .i64 t.p, .bool t.pa, .int .i64 t.ml, .string t.r0, .string t.r1], .int .i64 n, .int .i64 held, .int .i64 room] w fun e w' => e = .returned (.bool (ftB t n held room)) ∧ Below w.heap.size w w' := by
  have A := al_of ha
  have RC := fun w => hide (rcash_any t n w h)
  have RP := fun w => hide (rpart_any t n w h ha)
  have HR := hide (one_alloc w (Obj.cells #[.int .i64 t.k, .string t.d, .string t.r, .string t.a, .int .i64 t.q, .int .i64 t.m, .int .i64 t.td, .int .i64 t.sd, .int .i64 t.p, .bool t.pa, .int .i64 t.ml, .string t.r0, .string t.r1] 24))
  have HB := hide (TB.new t w 24)
  have cv : ptB t n = true → cV t n = csh t n := fun hp => by
    obtain ⟨p1, p2, _⟩ := pt_iff.1 hp
    unfold cV
    rw [if_neg (fun h => h A.e), if_neg (by omega)]
  have CV := hide cv
  clear h ha cv A
  unfold ftB
  cases hp : ptB t n
  · rw [hp] at RP
    rw [Bool.false_and]
    clear hp CV
    generalize cV t n = V at *
    generalize cE t n = E at *
    go_enter Tryd.func24, Tryd.ntmps24
    obtain ⟨_, c0, c1, c2, c3, c4, c5, c6, c7, c8, c9, c10, c11, c12⟩ := HB.out
    go_wp2_with fail
    refine ((RC _).out).mono ?_
    rintro e x1 ⟨rfl, hb⟩
    clear c0 c1 c2 c3 c4 c5 c6 c7 c8 c9 c10 c11 c12
    have HB := hide (HB.out.keep hb)
    have HR := hide (HR.out.trans (hb.mono HR.out.size))
    clear hb
    obtain ⟨_, c0, c1, c2, c3, c4, c5, c6, c7, c8, c9, c10, c11, c12⟩ := HB.out
    go_wp2_with fail
    refine ((RP _).out).mono ?_
    rintro e x2 ⟨rfl, hb⟩
    clear c0 c1 c2 c3 c4 c5 c6 c7 c8 c9 c10 c11 c12
    have HB := hide (HB.out.keep hb)
    have HR := hide (HR.out.trans (hb.mono HR.out.size))
    clear hb
    obtain ⟨_, c0, c1, c2, c3, c4, c5, c6, c7, c8, c9, c10, c11, c12⟩ := HB.out
    go_wp2_with fail
    go_ret
    exact ⟨rfl, HR.out⟩
  · rw [hp] at RP
    rw [Bool.true_and]
    have e := CV.out hp
    rw [e] at RC
    clear hp CV e
    generalize csh t n = V at *
    generalize cE t n = E at *
    by_cases hh : n ≤ held
    · rw [decide_eq_true hh, Bool.true_and]
      by_cases hk : t.k = 1
      · have k1 : (t.k != 1) = false := by simpa using hk
        rw [decide_eq_false (fun h => h hk), Bool.false_or]
        clear hk
        go_enter Tryd.func24, Tryd.ntmps24
        obtain ⟨_, c0, c1, c2, c3, c4, c5, c6, c7, c8, c9, c10, c11, c12⟩ := HB.out
        go_wp2_with fail
        refine ((RC _).out).mono ?_
        rintro e x1 ⟨rfl, hb⟩
        clear c0 c1 c2 c3 c4 c5 c6 c7 c8 c9 c10 c11 c12
        have HB := hide (HB.out.keep hb)
        have HR := hide (HR.out.trans (hb.mono HR.out.size))
        clear hb
        obtain ⟨_, c0, c1, c2, c3, c4, c5, c6, c7, c8, c9, c10, c11, c12⟩ := HB.out
        go_wp2_with fail
        refine ((RP _).out).mono ?_
        rintro e x2 ⟨rfl, hb⟩
        clear c0 c1 c2 c3 c4 c5 c6 c7 c8 c9 c10 c11 c12
        have HB := hide (HB.out.keep hb)
        have HR := hide (HR.out.trans (hb.mono HR.out.size))
        clear hb
        obtain ⟨_, c0, c1, c2, c3, c4, c5, c6, c7, c8, c9, c10, c11, c12⟩ := HB.out
        go_wp2_with fail
        go_ret
        exact ⟨rfl, HR.out⟩
      · have k1 : (t.k != 1) = true := by simpa using hk
        rw [decide_eq_true hk, Bool.true_or]
        clear hk
        go_enter Tryd.func24, Tryd.ntmps24
        obtain ⟨_, c0, c1, c2, c3, c4, c5, c6, c7, c8, c9, c10, c11, c12⟩ := HB.out
        go_wp2_with fail
        refine ((RC _).out).mono ?_
        rintro e x1 ⟨rfl, hb⟩
        clear c0 c1 c2 c3 c4 c5 c6 c7 c8 c9 c10 c11 c12
        have HB := hide (HB.out.keep hb)
        have HR := hide (HR.out.trans (hb.mono HR.out.size))
        clear hb
        obtain ⟨_, c0, c1, c2, c3, c4, c5, c6, c7, c8, c9, c10, c11, c12⟩ := HB.out
        go_wp2_with fail
        refine ((RP _).out).mono ?_
        rintro e x2 ⟨rfl, hb⟩
        clear c0 c1 c2 c3 c4 c5 c6 c7 c8 c9 c10 c11 c12
        have HB := hide (HB.out.keep hb)
        have HR := hide (HR.out.trans (hb.mono HR.out.size))
        clear hb
        obtain ⟨_, c0, c1, c2, c3, c4, c5, c6, c7, c8, c9, c10, c11, c12⟩ := HB.out
        go_wp2_with fail
        go_ret
        exact ⟨rfl, HR.out⟩
    · rw [decide_eq_false hh, Bool.false_and]
      have hh : held < n := by omega
      go_enter Tryd.func24, Tryd.ntmps24
      obtain ⟨_, c0, c1, c2, c3, c4, c5, c6, c7, c8, c9, c10, c11, c12⟩ := HB.out
      go_wp2_with fail
      refine ((RC _).out).mono ?_
      rintro e x1 ⟨rfl, hb⟩
      clear c0 c1 c2 c3 c4 c5 c6 c7 c8 c9 c10 c11 c12
      have HB := hide (HB.out.keep hb)
      have HR := hide (HR.out.trans (hb.mono HR.out.size))
      clear hb
      obtain ⟨_, c0, c1, c2, c3, c4, c5, c6, c7, c8, c9, c10, c11, c12⟩ := HB.out
      go_wp2_with fail
      refine ((RP _).out).mono ?_
      rintro e x2 ⟨rfl, hb⟩
      clear c0 c1 c2 c3 c4 c5 c6 c7 c8 c9 c10 c11 c12
      have HB := hide (HB.out.keep hb)
      have HR := hide (HR.out.trans (hb.mono HR.out.size))
      clear hb
      obtain ⟨_, c0, c1, c2, c3, c4, c5, c6, c7, c8, c9, c10, c11, c12⟩ := HB.out
      go_wp2_with fail
      go_ret
      exact ⟨rfl, HR.out⟩
end Go.Proofs.YtipgpmjhoaenlaaDoor
