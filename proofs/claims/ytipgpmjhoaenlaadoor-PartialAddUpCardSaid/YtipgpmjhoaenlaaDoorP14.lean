/-
  The parts of a trade are trades and add up; the contract of Id at this translation.
-/
import Derived.Test.YtipgpmjhoaenlaaDoorP9
namespace Go.Proofs.YtipgpmjhoaenlaaDoor
open Go.RowKit
set_option linter.unusedVariables false
set_option linter.unusedSimpArgs false
set_option linter.unnecessarySimpa false

theorem tE_mk {t s : Tr} (h : tE t = 0) (hk : s.k = t.k) (hd : s.d = t.d) (hr : s.r = t.r) (ha : s.a = t.a) (h0 : s.r0 = t.r0) (h1 : s.r1 = t.r1) (hn : nE s = 0) : tE s = 0 := by
  obtain ⟨k, b1, b2, sm, b3, _, b4, b5⟩ := tE_zero h
  unfold tE
  rw [hk, hd, hr, ha, h0, h1, b1, b2, sm, b3, b4, b5, hn]
  unfold tEb
  rw [if_neg (by omega)]
  rfl
theorem csh_lt {t : Tr} (g : Good t) {n : Int} (n1 : 1 ≤ n) (nq : n < t.q) (m1 : 1 ≤ t.m) : csh t n ≤ t.m - 1 := by
  have : csh t n < t.m := by
    unfold csh
    refine Int.ediv_lt_of_lt_mul (by omega) ?_
    exact Int.mul_lt_mul_of_pos_left nq (by omega)
  omega
/-- What the law asks of the parts. -/
structure Ad (t : Tr) (n : Int) : Prop where
  ea : tE (spA t n) = 0
  eb : tE (spB t n) = 0
  al : alB (spA t n) = false
  aq : (spA t n).q = n
  am : (spA t n).m = csh t n
  bq : (spB t n).q = t.q - n
  bm : (spB t n).m = t.m - csh t n
  ad : (spA t n).d = t.d
  bd : (spB t n).d = t.d
  a0 : (spA t n).r0 = t.r0
  b0 : (spB t n).r0 = t.r0
  n1 : 1 ≤ n
  nq : n < t.q
  q2 : t.q ≤ 1000000000000000
  m2 : t.m ≤ 1000000000000000
  v0 : 0 ≤ csh t n
  vm : csh t n ≤ t.m
theorem ad_of {t : Tr} {n : Int} (h : spE t n = 0) : Ad t n := by
  obtain ⟨hE, hA, hP⟩ := spE_zero h
  obtain ⟨n1, nq, q2, m2, v0, vm, _, _⟩ := spl_of hE hP
  have g := good_of hE
  obtain ⟨_, pa, lq⟩ := alB_iff.1 hA
  obtain ⟨l1, l2⟩ := g.la pa
  have ea : spA t n = (⟨t.k, t.d, t.r, t.a, n, csh t n, t.td, t.sd, t.p, false, 0, t.r0, t.r1⟩ : Tr) := if_pos h
  have m1 := g.m1
  have mz := g.mz
  have sd := g.sd
  have pp := g.p
  have kc : t.k = 1 → 1 ≤ csh t n := fun k => by
    unfold ptB at hP
    simp only [Bool.and_eq_true, decide_eq_true_eq, Bool.or_eq_true] at hP
    obtain ⟨_, _, _, h4⟩ := hP
    rcases h4 with h4 | h4
    · exact absurd k h4
    · omega
  have cl : t.k = 1 → csh t n ≤ t.m - 1 := fun k => csh_lt g n1 nq (m1 k)
  have cz : t.k = 2 → csh t n = 0 := fun k => by have := mz k; omega
  have na : nE (⟨t.k, t.d, t.r, t.a, n, csh t n, t.td, t.sd, t.p, false, 0, t.r0, t.r1⟩ : Tr) = 0 := by
    unfold nE
    rw [if_neg (by simp only; omega), if_neg (by simp only; rcases g.k with k | k; (have := kc k; omega); (have := cz k; omega)), if_neg (by simp only; omega), if_neg (by simp only; omega), if_neg (by simp)]
  refine ⟨?_, ?_, ?_, by rw [ea], by rw [ea], ?_, ?_, by rw [ea], ?_, by rw [ea], ?_, n1, nq, q2, m2, v0, vm⟩
  · rw [ea]; exact tE_mk hE rfl rfl rfl rfl rfl rfl na
  · by_cases hl : t.q - n < t.ml
    · have eb : spB t n = (⟨t.k, t.d, t.r, t.a, t.q - n, t.m - csh t n, t.td, t.sd, t.p, false, 0, t.r0, t.r1⟩ : Tr) := (if_pos h).trans (if_pos hl)
      rw [eb]
      refine tE_mk hE rfl rfl rfl rfl rfl rfl ?_
      unfold nE
      rw [if_neg (by simp only; omega), if_neg (by simp only; rcases g.k with k | k; (have := cl k; omega); (have := cz k; have := mz k; omega)), if_neg (by simp only; omega), if_neg (by simp only; omega), if_neg (by simp)]
    · have eb : spB t n = (⟨t.k, t.d, t.r, t.a, t.q - n, t.m - csh t n, t.td, t.sd, t.p, t.pa, t.ml, t.r0, t.r1⟩ : Tr) := (if_pos h).trans (if_neg hl)
      rw [eb]
      refine tE_mk hE rfl rfl rfl rfl rfl rfl ?_
      unfold nE
      rw [if_neg (by simp only; omega), if_neg (by simp only; rcases g.k with k | k; (have := cl k; omega); (have := cz k; have := mz k; omega)), if_neg (by simp only; omega), if_neg (by simp only; omega), if_neg (by simp only [pa]; simp; omega)]
  · rw [ea]; unfold alB; simp
  all_goals
    by_cases hl : t.q - n < t.ml
    · have eb : spB t n = (⟨t.k, t.d, t.r, t.a, t.q - n, t.m - csh t n, t.td, t.sd, t.p, false, 0, t.r0, t.r1⟩ : Tr) := (if_pos h).trans (if_pos hl)
      rw [eb]
    · have eb : spB t n = (⟨t.k, t.d, t.r, t.a, t.q - n, t.m - csh t n, t.td, t.sd, t.p, t.pa, t.ml, t.r0, t.r1⟩ : Tr) := (if_pos h).trans (if_neg hl)
      rw [eb]
theorem pr_low {t : Tr} {n : Int} (A : Ad t n) : mdE (csh t n) t.q n 0 = 0 ∧ mdV (csh t n) t.q n 0 ≤ t.m := by
  have n1 := A.n1
  have nq := A.nq
  have q2 := A.q2
  have m2 := A.m2
  have v0 := A.v0
  have vm := A.vm
  have c1 : csh t n * t.q ≤ t.m * n := Int.ediv_mul_le _ (by omega)
  have c2 : csh t n * t.q / n ≤ t.m := by
    have := Int.ediv_le_ediv (show 0 < n by omega) c1
    rwa [Int.mul_ediv_cancel _ (by omega)] at this
  have c0 : 0 ≤ csh t n * t.q / n := Int.ediv_nonneg (Int.mul_nonneg v0 (by omega)) (by omega)
  have hq : mdQ (csh t n) t.q n 0 = csh t n * t.q / n := by
    unfold mdQ absP
    have e1 : ((csh t n).natAbs : Int) = csh t n := by omega
    have e2 : (t.q.natAbs : Int) = t.q := by omega
    have e3 : negB (csh t n) t.q = false := by unfold negB; rw [decide_eq_false (by omega), decide_eq_false (by omega)]; rfl
    rw [e1, e2, e3]
    simp [rnd, upB]
  have hok : okArgs (csh t n) t.q n := ⟨⟨by omega, by omega⟩, ⟨by omega, by omega⟩, by omega, by omega⟩
  have hE := mdE_ok (csh t n) t.q n 0 (by decide) (by decide) hok (by rw [hq]; exact ⟨by omega, by omega⟩)
  exact ⟨hE, by rw [mdV_ok _ _ _ _ hE, hq]; exact c2⟩
theorem pr_high {t : Tr} {n : Int} (A : Ad t n) (h : mdE (t.m - csh t n) t.q (t.q - n) 1 = 0) : t.m ≤ mdV (t.m - csh t n) t.q (t.q - n) 1 := by
  have n1 := A.n1
  have nq := A.nq
  have v0 := A.v0
  have vm := A.vm
  have c1 : csh t n * t.q ≤ t.m * n := Int.ediv_mul_le _ (by omega)
  rw [mdV_ok _ _ _ _ h]
  have c2 : t.m ≤ (t.m - csh t n) * t.q / (t.q - n) := by
    refine (Int.le_ediv_iff_mul_le (by omega)).2 ?_
    rw [Int.mul_sub, Int.sub_mul]
    omega
  unfold mdQ absP
  have e1 : ((t.m - csh t n).natAbs : Int) = t.m - csh t n := by omega
  have e2 : (t.q.natAbs : Int) = t.q := by omega
  have e3 : negB (t.m - csh t n) t.q = false := by unfold negB; rw [decide_eq_false (by omega), decide_eq_false (by omega)]; rfl
  rw [e1, e2, e3]
  unfold rnd
  simp only [Bool.false_eq_true, if_false]
  split <;> omega
/-- What Id answers. -/
def idS (d r : ByteArray) : ByteArray := d ++ ⟨#[47]⟩ ++ r
set_option maxHeartbeats 4000000 in
set_option maxRecDepth 20000 in
theorem tid_any (t : Tr) (w : World) (hd : t.d.size ≤ 200) (hr : t.r0.size ≤ 200) : Calls Tryd.prog 19 #[.agg #[.int .i64 t.k, .string t.d, .string t.r, .string t.a, .int .i64 t.q, .int .i64 t.m, .int .i64 t.td, .int .i64 t.sd, .int .i64 t.p, .bool t.pa, .int .i64 t.ml, .string t.r0, .string t.r1]] w fun e w' => e = .returned (.string (idS t.d t.r0)) ∧ Below w.heap.size w w' := by
  have HR := hide (one_alloc w (Obj.cells #[.int .i64 t.k, .string t.d, .string t.r, .string t.a, .int .i64 t.q, .int .i64 t.m, .int .i64 t.td, .int .i64 t.sd, .int .i64 t.p, .bool t.pa, .int .i64 t.ml, .string t.r0, .string t.r1] 25))
  have HB := hide (TB.new t w 25)
  unfold idS
  go_enter Tryd.func19, Tryd.ntmps19
  obtain ⟨_, c0, c1, c2, c3, c4, c5, c6, c7, c8, c9, c10, c11, c12⟩ := HB.out
  go_wp2_with fail

  go_ret
  exact ⟨rfl, HR.out⟩
end Go.Proofs.YtipgpmjhoaenlaaDoor
