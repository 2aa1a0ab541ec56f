/-
  Contract of fraction's roundingStep and its closures at this translation.
-/
import Derived.Test.YtmdgjgeblplhpaaDoorFr8
import Derived.Test.YtmdgjgeblplhpaaDoorAm6
import Derived.Test.YtmdgjgeblplhpaaDoorDiv
import Derived.Lib.MinMaxS
import Derived.Laws.EntriesVeiled
import Derived.WalkLawsBesides
namespace Go.Proofs.YtmdgjgeblplhpaaDoor
open Go.RowKit
set_option linter.unusedVariables false

theorem clo0 (p : Addr) (x : Int) (w : World) (h : w.cell? p = some (.int .i64 x)) (hx : x = -1 ∨ x = 0 ∨ x = 1) :
    Calls Tryd.prog 50 #[.pointer (some p)] w fun e w' => e = .returned (.int .i64 (if x < 0 then -1 else 0)) ∧ w = w' := by
  rcases hx with rfl | rfl | rfl
  all_goals
    go_enter Tryd.func50, Tryd.ntmps50
    go_wp2
    go_ret
    exact ⟨rfl, rfl⟩
theorem clo1 (p : Addr) (x : Int) (w : World) (h : w.cell? p = some (.int .i64 x)) (hx : x = -1 ∨ x = 0 ∨ x = 1) :
    Calls Tryd.prog 51 #[.pointer (some p)] w fun e w' => e = .returned (.int .i64 (if 0 < x then 1 else 0)) ∧ w = w' := by
  rcases hx with rfl | rfl | rfl
  all_goals
    go_enter Tryd.func51, Tryd.ntmps51
    go_wp2
    go_ret
    exact ⟨rfl, rfl⟩
theorem clo3 (w : World) : Calls Tryd.prog 53 #[] w fun e w' => e = .returned (.int .i64 0) ∧ w = w' := by
  go_enter Tryd.func53, Tryd.ntmps53
  go_wp2
  go_ret
  exact ⟨rfl, rfl⟩
theorem clo2 (pr pd pn pq : Addr) (r x d q : Int) (w : World) (h1 : w.cell? pr = some (.int .i64 r)) (h2 : w.cell? pd = some (.int .i64 x)) (h3 : w.cell? pn = some (.int .i64 d)) (h4 : w.cell? pq = some (.int .i64 q))
    (hx : x = -1 ∨ x = 0 ∨ x = 1) (r1 : -1000000000 ≤ r) (r2 : r ≤ 1000000000) :
    Calls Tryd.prog 52 #[.pointer (some pr), .pointer (some pd), .pointer (some pn), .pointer (some pq)] w fun e w' => e = .returned (.int .i64 (if d < 2 * r * x then x else if 2 * r * x = d then (if q.tmod 2 = 0 then 0 else x) else 0)) ∧ w = w' := by
  obtain ⟨T, hT⟩ : ∃ T, T = 2 * r * x := ⟨_, rfl⟩
  have ht : wrap64 (wrap64 (2 * r) * x) = T := by
    have e : wrap64 (2 * r) = 2 * r := wrap_small (by omega) (by omega)
    rw [e, hT]
    rcases hx with rfl | rfl | rfl <;> exact wrap_small (by omega) (by omega)
  rw [← hT]
  have ht2 : wrap64 (2 * r * x) = T := by
    have e : wrap64 (2 * r) = 2 * r := wrap_small (by omega) (by omega)
    rw [e] at ht; exact ht
  clear hT hx
  by_cases a : d < T
  · rw [if_pos a]
    go_enter Tryd.func52, Tryd.ntmps52
    go_wp2_with fail
    go_ret
    exact ⟨rfl, rfl⟩
  · rw [if_neg a]
    by_cases b : T = d
    · rw [if_pos b]
      subst b
      by_cases c : q.tmod 2 = 0
      · rw [if_pos c]
        go_enter Tryd.func52, Tryd.ntmps52
        go_wp2_with fail
        go_ret
        exact ⟨rfl, rfl⟩
      · rw [if_neg c]
        have c1 : (q.tmod 2 == 0) = false := by simpa using c
        have c2 : (q.tmod 2 != 0) = true := by simpa using c
        go_enter Tryd.func52, Tryd.ntmps52
        go_wp2_with fail
        go_ret
        exact ⟨rfl, rfl⟩
    · rw [if_neg b]
      have b1 : (T == d) = false := by simpa using b
      go_enter Tryd.func52, Tryd.ntmps52
      go_wp2_with fail
      go_ret
      exact ⟨rfl, rfl⟩

theorem dir_cmp (r : Int) : cmpV r 0 = dirV r := rfl
theorem dir_cases (r : Int) : dirV r = -1 ∨ dirV r = 0 ∨ dirV r = 1 := by unfold dirV; split; omega; split <;> omega
theorem dir_neg (r : Int) : (if dirV r < 0 then (-1 : Int) else 0) = if r < 0 then -1 else 0 := by
  unfold dirV; by_cases h : r < 0 <;> by_cases g : 0 < r <;> simp [h, g]
theorem dir_pos (r : Int) : (if 0 < dirV r then (1 : Int) else 0) = if 0 < r then 1 else 0 := by
  unfold dirV; by_cases h : r < 0 <;> by_cases g : 0 < r <;> simp [h, g]; omega

set_option maxHeartbeats 2000000 in
theorem step0 (q r d : Int) (w : World) :
    Calls Tryd.prog 41 #[.int .i64 q, .int .i64 r, .int .i64 d, .int .i64 0] w fun e w' => e = .returned (.int .i64 (stV q r d 0)) ∧ Below w.heap.size w w' := by
  have CC := fun w => hide (cmp_any r 0 w)
  rw [dir_cmp] at CC
  have HV := hide (show stV q r d 0 = if dirV r < 0 then -1 else 0 by rw [st_0, dir_neg])
  have hx := dir_cases r
  have K := fun p w h => hide (clo0 p (dirV r) w h hx)
  generalize dirV r = x at *
  have HX := hide hx
  clear hx
  generalize stV q r d 0 = V at *
  have hv := HV.out
  simp only [← hv] at K
  clear hv
  have hmf : ∀ (fn : Fn) (first cap : Array Value) (w : World), (Instr.makeFunc fn first cap).run Tryd.prog w = .ok (.func fn first cap) w := fun _ _ _ _ => rfl
  go_enter Tryd.func41, Tryd.ntmps41
  go_wp2_with fail
  refine (CC _).out.mono ?_
  rintro e w1 ⟨rfl, rfl⟩
  go_wp2_with fail
  refine (K ⟨w.heap.size + 1 + 1 + 1, 0, none⟩ _ (by simp [go_sem])).out.mono ?_
  rintro e w1 ⟨rfl, rfl⟩
  go_wp2_with fail
  go_ret
  exact ⟨rfl, by repeat' (first | exact Below.refl _ _ | exact Nat.le_refl _ | refine Below.setCell ?_ ?_ _ | refine below_draw ?_ _ | refine Below.alloc ?_ ?_ _ | (simp; done) | (simp; omega))⟩
set_option maxHeartbeats 2000000 in
theorem step1 (q r d : Int) (w : World) :
    Calls Tryd.prog 41 #[.int .i64 q, .int .i64 r, .int .i64 d, .int .i64 1] w fun e w' => e = .returned (.int .i64 (stV q r d 1)) ∧ Below w.heap.size w w' := by
  have CC := fun w => hide (cmp_any r 0 w)
  rw [dir_cmp] at CC
  have HV := hide (show stV q r d 1 = if 0 < dirV r then 1 else 0 by rw [st_1, dir_pos])
  have hx := dir_cases r
  have K := fun p w h => hide (clo1 p (dirV r) w h hx)
  generalize dirV r = x at *
  have HX := hide hx
  clear hx
  generalize stV q r d 1 = V at *
  have hv := HV.out
  simp only [← hv] at K
  clear hv
  have hmf : ∀ (fn : Fn) (first cap : Array Value) (w : World), (Instr.makeFunc fn first cap).run Tryd.prog w = .ok (.func fn first cap) w := fun _ _ _ _ => rfl
  go_enter Tryd.func41, Tryd.ntmps41
  go_wp2_with fail
  refine (CC _).out.mono ?_
  rintro e w1 ⟨rfl, rfl⟩
  go_wp2_with fail
  refine (K ⟨w.heap.size + 1 + 1 + 1, 0, none⟩ _ (by simp [go_sem])).out.mono ?_
  rintro e w1 ⟨rfl, rfl⟩
  go_wp2_with fail
  go_ret
  exact ⟨rfl, by repeat' (first | exact Below.refl _ _ | exact Nat.le_refl _ | refine Below.setCell ?_ ?_ _ | refine below_draw ?_ _ | refine Below.alloc ?_ ?_ _ | (simp; done) | (simp; omega))⟩
set_option maxHeartbeats 2000000 in
theorem step2 (q r d : Int) (w : World) (r1 : -1000000000 ≤ r) (r2 : r ≤ 1000000000) :
    Calls Tryd.prog 41 #[.int .i64 q, .int .i64 r, .int .i64 d, .int .i64 2] w fun e w' => e = .returned (.int .i64 (stV q r d 2)) ∧ Below w.heap.size w w' := by
  have CC := fun w => hide (cmp_any r 0 w)
  rw [dir_cmp] at CC
  have HV := hide (show stV q r d 2 = (if d < 2 * r * dirV r then dirV r else if 2 * r * dirV r = d then (if q.tmod 2 = 0 then 0 else dirV r) else 0) by simp [stV])
  have hx := dir_cases r
  have K := fun pr pd pn pq w h1 h2 h3 h4 => hide (clo2 pr pd pn pq r (dirV r) d q w h1 h2 h3 h4 hx r1 r2)
  generalize dirV r = x at *
  have HX := hide hx
  clear hx
  generalize stV q r d 2 = V at *
  have hv := HV.out
  simp only [← hv] at K
  clear hv
  have hmf : ∀ (fn : Fn) (first cap : Array Value) (w : World), (Instr.makeFunc fn first cap).run Tryd.prog w = .ok (.func fn first cap) w := fun _ _ _ _ => rfl
  go_enter Tryd.func41, Tryd.ntmps41
  go_wp2_with fail
  refine (CC _).out.mono ?_
  rintro e w1 ⟨rfl, rfl⟩
  go_wp2_with fail
  refine (K _ _ _ _ _ ?_ ?_ ?_ ?_).out.mono ?_
  · simp [go_sem]
  · simp [go_sem]
  · simp [go_sem]
  · simp [go_sem]
  rintro e w1 ⟨rfl, rfl⟩
  go_wp2_with fail
  go_ret
  exact ⟨rfl, by repeat' (first | exact Below.refl _ _ | exact Nat.le_refl _ | refine Below.setCell ?_ ?_ _ | refine below_draw ?_ _ | refine Below.alloc ?_ ?_ _ | (simp; done) | (simp; omega))⟩
set_option maxHeartbeats 2000000 in
theorem step3 (q r d : Int) (w : World) :
    Calls Tryd.prog 41 #[.int .i64 q, .int .i64 r, .int .i64 d, .int .i64 3] w fun e w' => e = .returned (.int .i64 (stV q r d 3)) ∧ Below w.heap.size w w' := by
  have CC := fun w => hide (cmp_any r 0 w)
  rw [dir_cmp] at CC
  have HV := hide (show stV q r d 3 = 0 by rw [st_3])
  have hx := dir_cases r
  have K := fun w => hide (clo3 w)
  generalize dirV r = x at *
  have HX := hide hx
  clear hx
  generalize stV q r d 3 = V at *
  have hmf : ∀ (fn : Fn) (first cap : Array Value) (w : World), (Instr.makeFunc fn first cap).run Tryd.prog w = .ok (.func fn first cap) w := fun _ _ _ _ => rfl
  go_enter Tryd.func41, Tryd.ntmps41
  go_wp2_with fail
  refine (CC _).out.mono ?_
  rintro e w1 ⟨rfl, rfl⟩
  go_wp2_with fail
  refine (K _).out.mono ?_
  rintro e w1 ⟨rfl, rfl⟩
  go_wp2_with fail
  go_ret
  exact ⟨ret_i HV.out.symm, by repeat' (first | exact Below.refl _ _ | exact Nat.le_refl _ | refine Below.setCell ?_ ?_ _ | refine below_draw ?_ _ | refine Below.alloc ?_ ?_ _ | (simp; done) | (simp; omega))⟩
theorem step_any (q r d m : Int) (w : World) (r1 : -1000000000 ≤ r) (r2 : r ≤ 1000000000) (m1 : 0 ≤ m) (m2 : m ≤ 3) :
    Calls Tryd.prog 41 #[.int .i64 q, .int .i64 r, .int .i64 d, .int .i64 m] w fun e w' => e = .returned (.int .i64 (stV q r d m)) ∧ Below w.heap.size w w' := by
  have h : m = 0 ∨ m = 1 ∨ m = 2 ∨ m = 3 := by omega
  rcases h with rfl | rfl | rfl | rfl
  · exact step0 q r d w
  · exact step1 q r d w
  · exact step2 q r d w r1 r2
  · exact step3 q r d w

theorem mono_sgn {x y n : Int} (hp : 0 ≤ x → 0 ≤ y) (hn : x ≤ 0 → y ≤ 0) : (0 ≤ x * n → 0 ≤ y * n) ∧ (x * n ≤ 0 → y * n ≤ 0) := by
  rcases Int.lt_trichotomy x 0 with h | h | h
  · have hy := hn (by omega)
    refine ⟨fun g => ?_, fun g => ?_⟩
    · have : n ≤ 0 := by
        apply Classical.byContradiction; intro c
        have := Int.mul_neg_of_neg_of_pos h (show 0 < n by omega); omega
      exact Int.mul_nonneg_of_nonpos_of_nonpos hy this
    · have : 0 ≤ n := by
        apply Classical.byContradiction; intro c
        have := Int.mul_pos_of_neg_of_neg h (show n < 0 by omega); omega
      exact Int.mul_nonpos_of_nonpos_of_nonneg hy this
  · have : y = 0 := by have := hp (by omega); have := hn (by omega); omega
    rw [this]; simp
  · have hy := hp (by omega)
    refine ⟨fun g => ?_, fun g => ?_⟩
    · have : 0 ≤ n := by
        apply Classical.byContradiction; intro c
        have := Int.mul_neg_of_pos_of_neg h (show n < 0 by omega); omega
      exact Int.mul_nonneg hy this
    · have : n ≤ 0 := by
        apply Classical.byContradiction; intro c
        have := Int.mul_pos h (show 0 < n by omega); omega
      exact Int.mul_nonpos_of_nonneg_of_nonpos hy this

theorem st_sgn (q r d m : Int) (hd : 0 < d) : (0 ≤ r → 0 ≤ stV q r d m ∧ stV q r d m ≤ 1) ∧ (r ≤ 0 → stV q r d m ≤ 0 ∧ -1 ≤ stV q r d m) := by
  unfold stV dirV; grind
theorem td_sgn (x d : Int) (hd : 0 < d) : (0 ≤ x → 0 ≤ x.tdiv d) ∧ (x ≤ 0 → x.tdiv d ≤ 0) := by
  refine ⟨fun h => Int.tdiv_nonneg h (by omega), fun h => ?_⟩
  have := Int.tdiv_nonneg (show 0 ≤ -x by omega) (show 0 ≤ d by omega)
  rw [Int.neg_tdiv] at this; omega
theorem tm_sgn (x d : Int) : (0 ≤ x → 0 ≤ x.tmod d) ∧ (x ≤ 0 → x.tmod d ≤ 0) := by
  refine ⟨fun h => Int.tmod_nonneg _ h, fun h => ?_⟩
  have := Int.tmod_nonneg d (show 0 ≤ -x by omega)
  rw [Int.neg_tmod] at this; omega
theorem td_bd (x d : Int) (hd : 0 < d) : (x.tdiv d).natAbs ≤ x.natAbs := by
  rw [Int.natAbs_tdiv]; exact Nat.div_le_self _ _

/-- If the product by the quotient is no amount, the rounded result is none. -/
theorem of_over {n d x m : Int} (hd : 0 < d) (h : ¬ okA (x.tdiv d * n)) : ¬ okA (qT n d x + ofS n d x m) := by
  have q := mono_sgn (n := n) (td_sgn x d hd).1 (td_sgn x d hd).2
  have r := mono_sgn (n := n) (tm_sgn x d).1 (tm_sgn x d).2
  have p := td_sgn (x.tmod d * n) d hd
  have s := st_sgn (qT n d x) (rT n d x) d m hd
  have t := rT_sgn (n := n) (d := d) (x := x)
  have e : qT n d x = x.tdiv d * n + (x.tmod d * n).tdiv d := (of_parts x n d hd).1
  unfold ofS
  unfold okA at *
  rcases Int.le_total 0 (x * n) with c | c
  · have := q.1 c; have := p.1 (r.1 c); have := s.1 (t.1 c); omega
  · have := q.2 c; have := p.2 (r.2 c); have := s.2 (t.2 c); omega

theorem am_ok {x : Int} : amA x = true ↔ okA x := by rw [amA_iff]; rfl

theorem md_prod (q n : Int) : mdQ q n 1 3 = q * n := by
  have e : absP q n = ((q * n).natAbs : Int) := by unfold absP; rw [Int.natAbs_mul]; simp
  unfold mdQ
  rw [e]
  have h1 : ((q * n).natAbs : Int) % 1 = 0 := by omega
  have h2 : ((q * n).natAbs : Int) / 1 = ((q * n).natAbs : Int) := by omega
  rw [h1, h2]
  have hu : ∀ neg s, upB neg s 0 1 3 = false := by intro neg s; simp [upB]
  unfold rnd
  simp only [hu, if_false, Bool.false_eq_true]
  unfold negB
  by_cases a : q < 0 <;> by_cases b : n < 0
  · have := Int.mul_pos_of_neg_of_neg a b; simp [a, b]; omega
  · have := Int.mul_nonpos_of_nonpos_of_nonneg (show q ≤ 0 by omega) (show 0 ≤ n by omega); simp [a, b]; omega
  · have := Int.mul_nonpos_of_nonneg_of_nonpos (show 0 ≤ q by omega) (show n ≤ 0 by omega); simp [a, b]; omega
  · have := Int.mul_nonneg (show 0 ≤ q by omega) (show 0 ≤ n by omega); simp [a, b]; omega
theorem md_E {q n : Int} (hq : okA q) (hn : okA n) : mdE q n 1 3 = if okA (q * n) then 0 else 12 := by
  unfold mdE
  rw [if_neg (by omega), if_pos (show okArgs q n 1 from ⟨hq, hn, by omega, by omega⟩), md_prod]
theorem divfor_1 (q n : Int) : DivFor q n 1 := by
  intro h
  have : 0 ≤ absP q n := by unfold absP; exact_mod_cast Nat.zero_le _
  exact div_any _ _ _ (by omega) h (by omega) (by omega) (by omega)
end Go.Proofs.YtmdgjgeblplhpaaDoor
