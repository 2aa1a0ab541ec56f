/-
  Contract of the reference's New at this translation. Conditions: the arguments fit their kinds.
-/
import Derived.Test.YtmdgjgeblplhpaaDoorFr5
namespace Go.Proofs.YtmdgjgeblplhpaaDoor
open Go.RowKit
set_option linter.unusedVariables false

set_option maxHeartbeats 4000000 in
theorem rnew_any (n d : Int) (w : World) (hn : I64 n) (hd : I64 d) :
    Calls Tryd.prog 13 #[.int .i64 n, .int .i64 d] w fun e w' => e = .returned (.tuple #[.agg #[.int .i64 (nwN n d), .int .i64 (nwD n d)], .int .i64 (nwE n d)]) ∧ Below w.heap.size w w' := by
  obtain ⟨n1, n2⟩ := hn
  obtain ⟨d1, d2⟩ := hd
  by_cases h0 : d = 0
  · subst h0
    have HR := hide (show nwN n 0 = 0 ∧ nwD n 0 = 0 ∧ nwE n 0 = 2 by simp [nwN, nwD, nwE])
    generalize nwN n 0 = A at *
    generalize nwD n 0 = B at *
    generalize nwE n 0 = E at *
    go_enter Tryd.func13, Tryd.ntmps13
    go_wp2_with fail
    exact bodyPost_ret (v := .tuple #[.agg #[.int .i64 0, .int .i64 0], .int .i64 2]) (by simp [results, Tryd.results13, go_sem]) rfl
      ⟨ret_frE HR.out.1.symm HR.out.2.1.symm HR.out.2.2.symm, (by repeat' (first | exact Below.refl _ _ | exact Nat.le_refl _ | refine Below.setCell ?_ ?_ _ | refine below_draw ?_ _ | refine Below.alloc ?_ ?_ _ | (simp; done) | (simp; omega)))⟩
  · have e0 : (d == 0) = false := by simpa using h0
    have G := fun w => hide (rgcd_any (n.natAbs : Int) (d.natAbs : Int) w (by omega) (by omega) (by omega) (by omega))
    rw [gA_abs] at G
    have M1 := fun w => hide (size_any n w n1 n2)
    have M2 := fun w => hide (size_any d w d1 d2)
    have hg := gA_pos (n := n) h0
    have q1 : ((n.natAbs : Int) / (gA n d : Int)) = (pN n d : Int) := by unfold pN; simp
    have q2 : ((d.natAbs : Int) / (gA n d : Int)) = (pD n d : Int) := by unfold pD; simp
    have b1 : pN n d ≤ n.natAbs := Nat.div_le_self _ _
    have b2 : pD n d ≤ d.natAbs := Nat.div_le_self _ _
    obtain ⟨g, hgg⟩ : ∃ g : Int, g = (gA n d : Int) := ⟨_, rfl⟩
    rw [← hgg] at q1 q2 G
    have gp : 0 < g := by omega
    have ge : (g == 0) = false := by simp; omega
    clear hgg hg
    have hov : ovB n d = (decide (1000000000 < (pN n d : Int)) || decide (1000000000 < (pD n d : Int))) := by
      unfold ovB; congr 1 <;> (apply decide_eq_decide.2; omega)
    have HF := hide (show nwN n d = (if ovB n d then 0 else if ngB n d then -(pN n d : Int) else (pN n d : Int)) ∧ nwD n d = (if ovB n d then 0 else (pD n d : Int)) ∧ nwE n d = (if ovB n d then 12 else 0) by simp [nwN, nwD, nwE, h0])
    have HQ1 : Hid ((n.natAbs : Int) / g = (pN n d : Int)) := hide q1
    have HQ2 : Hid ((d.natAbs : Int) / g = (pD n d : Int)) := hide q2
    have HO := hide hov
    clear h0 hov q1 q2
    generalize nwN n d = A at *
    generalize nwD n d = B at *
    generalize nwE n d = E at *
    obtain ⟨P, hP⟩ : ∃ P : Int, P = (pN n d : Int) := ⟨_, rfl⟩
    obtain ⟨Q, hQ⟩ : ∃ Q : Int, Q = (pD n d : Int) := ⟨_, rfl⟩
    rw [← hP, ← hQ] at HF HO
    rw [← hP] at HQ1
    rw [← hQ] at HQ2
    obtain ⟨X, hX⟩ : ∃ X : Int, X = (n.natAbs : Int) := ⟨_, rfl⟩
    obtain ⟨Y, hY⟩ : ∃ Y : Int, Y = (d.natAbs : Int) := ⟨_, rfl⟩
    rw [← hX] at HQ1 M1 G
    rw [← hY] at HQ2 M2 G
    have p1 : 0 ≤ P := by omega
    have p2 : P ≤ 9223372036854775808 := by omega
    have p3 : 0 ≤ Q := by omega
    have p4 : Q ≤ 9223372036854775808 := by omega
    have x0 : 0 ≤ X := by omega
    have y0 : 0 ≤ Y := by omega
    have td1 : X.tdiv g = P := by rw [Int.tdiv_eq_ediv_of_nonneg x0]; exact HQ1.out
    have td2 : Y.tdiv g = Q := by rw [Int.tdiv_eq_ediv_of_nonneg y0]; exact HQ2.out
    clear hX hY hP hQ b1 b2 HQ1 HQ2 x0 y0
    by_cases o1 : 1000000000 < P
    · have HR : Hid (A = 0 ∧ B = 0 ∧ E = 12) := hide (by have := HF.out; have ho := HO.out; simp [o1] at ho; rw [ho] at this; simpa using this)
      clear HF HO
      go_enter Tryd.func13, Tryd.ntmps13
      go_wp2_with (first | (go_at_call_of 31 (Value.int .i64 n); refine (M1 _).out.mono ?_; rintro e w' ⟨rfl, rfl⟩) | (go_at_call_of 31 (Value.int .i64 d); refine (M2 _).out.mono ?_; rintro e w' ⟨rfl, rfl⟩))
      refine (G _).out.mono ?_
      rintro e w' ⟨rfl, k, rfl⟩
      go_wp2_with fail
      go_quiet (fail)
      go_wp2_with fail
      exact bodyPost_ret (v := .tuple #[.agg #[.int .i64 0, .int .i64 0], .int .i64 12]) (by simp [results, Tryd.results13, go_sem]) rfl
        ⟨ret_frE HR.out.1.symm HR.out.2.1.symm HR.out.2.2.symm, (by repeat' (first | exact Below.refl _ _ | exact Nat.le_refl _ | refine Below.setCell ?_ ?_ _ | refine below_draw ?_ _ | refine Below.alloc ?_ ?_ _ | (simp; done) | (simp; omega)))⟩
    · by_cases o2 : 1000000000 < Q
      · have HR : Hid (A = 0 ∧ B = 0 ∧ E = 12) := hide (by have := HF.out; have ho := HO.out; simp [o2] at ho; rw [ho] at this; simpa using this)
        clear HF HO
        go_enter Tryd.func13, Tryd.ntmps13
        go_wp2_with (first | (go_at_call_of 31 (Value.int .i64 n); refine (M1 _).out.mono ?_; rintro e w' ⟨rfl, rfl⟩) | (go_at_call_of 31 (Value.int .i64 d); refine (M2 _).out.mono ?_; rintro e w' ⟨rfl, rfl⟩))
        refine (G _).out.mono ?_
        rintro e w' ⟨rfl, k, rfl⟩
        go_wp2_with fail
        go_quiet (fail)
        go_wp2_with fail
        exact bodyPost_ret (v := .tuple #[.agg #[.int .i64 0, .int .i64 0], .int .i64 12]) (by simp [results, Tryd.results13, go_sem]) rfl
          ⟨ret_frE HR.out.1.symm HR.out.2.1.symm HR.out.2.2.symm, (by repeat' (first | exact Below.refl _ _ | exact Nat.le_refl _ | refine Below.setCell ?_ ?_ _ | refine below_draw ?_ _ | refine Below.alloc ?_ ?_ _ | (simp; done) | (simp; omega)))⟩
      · have ho : ovB n d = false := by rw [HO.out]; simp [o1, o2]
        have HF2 : Hid (A = (if ngB n d then -P else P) ∧ B = Q ∧ E = 0) := hide (by have := HF.out; rw [ho] at this; simpa using this)
        clear HF HO ho
        have nb : ngB n d = (decide (n < 0) != decide (d < 0)) := rfl
        by_cases s1 : n < 0 <;> by_cases s2 : d < 0
        · have HR : Hid (A = P ∧ B = Q ∧ E = 0) := hide (by have := HF2.out; rw [nb] at this; simpa [s1, s2] using this)
          clear HF2 nb
          have t1 : decide (n < 0) = true := by simp; omega
          have t2 : decide (d < 0) = true := by simp; omega
          clear s1 s2
          go_enter Tryd.func13, Tryd.ntmps13
          go_wp2_with (first | (go_at_call_of 31 (Value.int .i64 n); refine (M1 _).out.mono ?_; rintro e w' ⟨rfl, rfl⟩) | (go_at_call_of 31 (Value.int .i64 d); refine (M2 _).out.mono ?_; rintro e w' ⟨rfl, rfl⟩))
          refine (G _).out.mono ?_
          rintro e w' ⟨rfl, k, rfl⟩
          go_wp2_with fail
          go_quiet (fail)
          go_wp2_with fail
          exact bodyPost_ret (v := .tuple #[.agg #[.int .i64 P, .int .i64 Q], .int .i64 0]) (by simp [results, Tryd.results13, go_sem]) rfl
            ⟨ret_frE HR.out.1.symm HR.out.2.1.symm HR.out.2.2.symm, (by repeat' (first | exact Below.refl _ _ | exact Nat.le_refl _ | refine Below.setCell ?_ ?_ _ | refine below_draw ?_ _ | refine Below.alloc ?_ ?_ _ | (simp; done) | (simp; omega)))⟩
        · have HR : Hid (A = -P ∧ B = Q ∧ E = 0) := hide (by have := HF2.out; rw [nb] at this; simpa [s1, s2] using this)
          clear HF2 nb
          have t1 : decide (n < 0) = true := by simp; omega
          have t2 : decide (d < 0) = false := by simp; omega
          clear s1 s2
          go_enter Tryd.func13, Tryd.ntmps13
          go_wp2_with (first | (go_at_call_of 31 (Value.int .i64 n); refine (M1 _).out.mono ?_; rintro e w' ⟨rfl, rfl⟩) | (go_at_call_of 31 (Value.int .i64 d); refine (M2 _).out.mono ?_; rintro e w' ⟨rfl, rfl⟩))
          refine (G _).out.mono ?_
          rintro e w' ⟨rfl, k, rfl⟩
          go_wp2_with fail
          go_quiet (fail)
          go_wp2_with fail
          exact bodyPost_ret (v := .tuple #[.agg #[.int .i64 (-P), .int .i64 Q], .int .i64 0]) (by simp [results, Tryd.results13, go_sem]) rfl
            ⟨ret_frE HR.out.1.symm HR.out.2.1.symm HR.out.2.2.symm, (by repeat' (first | exact Below.refl _ _ | exact Nat.le_refl _ | refine Below.setCell ?_ ?_ _ | refine below_draw ?_ _ | refine Below.alloc ?_ ?_ _ | (simp; done) | (simp; omega)))⟩
        · have HR : Hid (A = -P ∧ B = Q ∧ E = 0) := hide (by have := HF2.out; rw [nb] at this; simpa [s1, s2] using this)
          clear HF2 nb
          have t1 : decide (n < 0) = false := by simp; omega
          have t2 : decide (d < 0) = true := by simp; omega
          clear s1 s2
          go_enter Tryd.func13, Tryd.ntmps13
          go_wp2_with (first | (go_at_call_of 31 (Value.int .i64 n); refine (M1 _).out.mono ?_; rintro e w' ⟨rfl, rfl⟩) | (go_at_call_of 31 (Value.int .i64 d); refine (M2 _).out.mono ?_; rintro e w' ⟨rfl, rfl⟩))
          refine (G _).out.mono ?_
          rintro e w' ⟨rfl, k, rfl⟩
          go_wp2_with fail
          go_quiet (fail)
          go_wp2_with fail
          exact bodyPost_ret (v := .tuple #[.agg #[.int .i64 (-P), .int .i64 Q], .int .i64 0]) (by simp [results, Tryd.results13, go_sem]) rfl
            ⟨ret_frE HR.out.1.symm HR.out.2.1.symm HR.out.2.2.symm, (by repeat' (first | exact Below.refl _ _ | exact Nat.le_refl _ | refine Below.setCell ?_ ?_ _ | refine below_draw ?_ _ | refine Below.alloc ?_ ?_ _ | (simp; done) | (simp; omega)))⟩
        · have HR : Hid (A = P ∧ B = Q ∧ E = 0) := hide (by have := HF2.out; rw [nb] at this; simpa [s1, s2] using this)
          clear HF2 nb
          have t1 : decide (n < 0) = false := by simp; omega
          have t2 : decide (d < 0) = false := by simp; omega
          clear s1 s2
          go_enter Tryd.func13, Tryd.ntmps13
          go_wp2_with (first | (go_at_call_of 31 (Value.int .i64 n); refine (M1 _).out.mono ?_; rintro e w' ⟨rfl, rfl⟩) | (go_at_call_of 31 (Value.int .i64 d); refine (M2 _).out.mono ?_; rintro e w' ⟨rfl, rfl⟩))
          refine (G _).out.mono ?_
          rintro e w' ⟨rfl, k, rfl⟩
          go_wp2_with fail
          go_quiet (fail)
          go_wp2_with fail
          exact bodyPost_ret (v := .tuple #[.agg #[.int .i64 P, .int .i64 Q], .int .i64 0]) (by simp [results, Tryd.results13, go_sem]) rfl
            ⟨ret_frE HR.out.1.symm HR.out.2.1.symm HR.out.2.2.symm, (by repeat' (first | exact Below.refl _ _ | exact Nat.le_refl _ | refine Below.setCell ?_ ?_ _ | refine below_draw ?_ _ | refine Below.alloc ?_ ?_ _ | (simp; done) | (simp; omega)))⟩
end Go.Proofs.YtmdgjgeblplhpaaDoor
