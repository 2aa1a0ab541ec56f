/-
  The reference's Needed, the statements' 'of', and the example of the chapter at this translation. Conditions: the arguments fit their kinds.
-/
import Derived.Test.YtjbpgpfhabefbaaV5
import Derived.Test.YtjbpgpfhabefbaaQuo
namespace Go.Proofs.Ytjbpgpfhabefbaa
open Go.RowKit
set_option linter.unusedVariables false

theorem of_any (n d : Int) (w : World) : Calls Try.prog 5 #[.agg #[.int .i64 n, .int .i64 d]] w fun e w' => e = .returned (.agg #[.int .i64 n, .int .i64 d]) ∧ Below w.heap.size w w' := by
  go_enter Try.func5, Try.ntmps5
  go_wp2
  exact bodyPost_ret (v := .agg #[.int .i64 n, .int .i64 d]) (by simp [results, Try.results5, go_sem]) rfl
    ⟨rfl, by repeat' (first | exact Below.refl _ _ | exact Nat.le_refl _ | refine Below.setCell ?_ ?_ _ | refine Below.alloc ?_ ?_ _ | (simp; done) | (simp; omega))⟩

def fitB (p n d : Int) : Bool := decide ((1 ≤ p ∧ p ≤ 1000000000) ∧ ckE n d = 0 ∧ 0 ≤ n ∧ n ≤ d)
theorem fits_any (p n d : Int) (w : World) (hn : I64 n) (hd : I64 d) : Calls Try.prog 13 #[.int .i64 p, .agg #[.int .i64 n, .int .i64 d]] w fun e w' => e = .returned (.bool (fitB p n d)) ∧ Below w.heap.size w w' := by
  have C := fun w => hide (rcheck_any n d w hn.1 hn.2 hd.1 hd.2)
  have HB := hide (show fitB p n d = decide ((1 ≤ p ∧ p ≤ 1000000000) ∧ ckE n d = 0 ∧ 0 ≤ n ∧ n ≤ d) from rfl)
  generalize fitB p n d = B at *
  generalize ckE n d = E at *
  have fin : ∀ {b : Bool} {w' : World}, b = B → Below w.heap.size w w' → (Ending.returned (.bool b) = .returned (.bool B)) ∧ Below w.heap.size w w' := fun h h' => ⟨by rw [h], h'⟩
  by_cases p1 : 1 ≤ p
  · by_cases p2 : p ≤ 1000000000
    · by_cases h : E = 0
      · subst h
        by_cases h0 : 0 ≤ n
        · go_enter Try.func13, Try.ntmps13
          go_wp2_with fail
          refine (C _).out.mono ?_
          rintro e w1 ⟨rfl, hb⟩
          have c0 := (hb.cell (p := ⟨w.heap.size, 0, none⟩) (by simp)).trans (show _ = some (Value.int .i64 n) by simp [go_sem])
          have c1 := (hb.cell (p := ⟨w.heap.size, 1, none⟩) (by simp)).trans (show _ = some (Value.int .i64 d) by simp [go_sem])
          have HB1 := hide (show Below w.heap.size w w1 from ((Below.refl w.heap.size w).alloc (Nat.le_refl _) _).trans (hb.mono (by simp)))
          clear hb
          go_wp2_with fail
          go_ret
          exact fin (by rw [HB.out]; simp [h0, p1, p2]) HB1.out
        · go_enter Try.func13, Try.ntmps13
          go_wp2_with fail
          refine (C _).out.mono ?_
          rintro e w1 ⟨rfl, hb⟩
          have c0 := (hb.cell (p := ⟨w.heap.size, 0, none⟩) (by simp)).trans (show _ = some (Value.int .i64 n) by simp [go_sem])
          have c1 := (hb.cell (p := ⟨w.heap.size, 1, none⟩) (by simp)).trans (show _ = some (Value.int .i64 d) by simp [go_sem])
          have HB1 := hide (show Below w.heap.size w w1 from ((Below.refl w.heap.size w).alloc (Nat.le_refl _) _).trans (hb.mono (by simp)))
          clear hb
          go_wp2_with fail
          go_ret
          exact fin (by rw [HB.out]; simp <;> omega) HB1.out
      · have e1 : (E == 0) = false := by simpa using h
        go_enter Try.func13, Try.ntmps13
        go_wp2_with fail
        refine (C _).out.mono ?_
        rintro e w1 ⟨rfl, hb⟩
        have HB1 := hide (show Below w.heap.size w w1 from ((Below.refl w.heap.size w).alloc (Nat.le_refl _) _).trans (hb.mono (by simp)))
        clear hb
        go_wp2_with fail
        go_ret
        exact fin (by rw [HB.out]; simp [h]) HB1.out
    · clear C
      go_enter Try.func13, Try.ntmps13
      go_wp2_with fail
      go_ret
      exact fin (by rw [HB.out]; simp <;> omega) ((Below.refl w.heap.size w).alloc (Nat.le_refl _) _)
  · clear C
    go_enter Try.func13, Try.ntmps13
    go_wp2_with fail
    go_ret
    exact fin (by rw [HB.out]; simp <;> omega) ((Below.refl w.heap.size w).alloc (Nat.le_refl _) _)

theorem rvalue_no (q p n d : Int) (w : World) (hn : I64 n) (hd : I64 d) (h : ¬ inV q p n d) :
    Calls Try.prog 6 #[.int .i64 q, .int .i64 p, .agg #[.int .i64 n, .int .i64 d]] w fun e w' => e = .returned (.tuple #[.int .i64 (vV q p n d), .int .i64 (vE q p n d)]) ∧ Below w.heap.size w w' := by
  have C := fun w => hide (fits_any p n d w hn hd)
  have HR := hide (show vV q p n d = 0 ∧ vE q p n d = 2 by simp [vV, vE, h])
  generalize vV q p n d = V at *
  generalize vE q p n d = E at *
  clear hn hd
  by_cases h0 : q < 0
  · clear h C
    go_enter Try.func6, Try.ntmps6
    go_wp2_with fail
    go_ret2
    exact ⟨ret_vv HR.out.1.symm HR.out.2.symm, (Below.refl w.heap.size w).alloc (Nat.le_refl _) _⟩
  · by_cases h1 : 1000000000000000 < q
    · clear h C
      go_enter Try.func6, Try.ntmps6
      go_wp2_with fail
      go_ret2
      exact ⟨ret_vv HR.out.1.symm HR.out.2.symm, (Below.refl w.heap.size w).alloc (Nat.le_refl _) _⟩
    · have hf : fitB p n d = false := by
        cases hb : fitB p n d
        · rfl
        · have q := of_decide_eq_true hb
          exact absurd ⟨⟨by omega, by omega⟩, q.1, q.2⟩ h
      rw [hf] at C
      clear h hf
      go_enter Try.func6, Try.ntmps6
      go_wp2_with fail
      refine (C _).out.mono ?_
      rintro e w1 ⟨rfl, hb⟩
      have HB1 := hide (show Below w.heap.size w w1 from ((Below.refl w.heap.size w).alloc (Nat.le_refl _) _).trans (hb.mono (by simp)))
      clear hb
      go_wp2_with fail
      go_ret2
      exact ⟨ret_vv HR.out.1.symm HR.out.2.symm, HB1.out⟩

theorem rvalue_yes (q p n d : Int) (w : World) (hn : I64 n) (hd : I64 d) (h : inV q p n d) :
    Calls Try.prog 6 #[.int .i64 q, .int .i64 p, .agg #[.int .i64 n, .int .i64 d]] w fun e w' => e = .returned (.tuple #[.int .i64 (vV q p n d), .int .i64 (vE q p n d)]) ∧ Below w.heap.size w w' := by
  have C := fun w => hide (fits_any p n d w hn hd)
  rw [show fitB p n d = true from decide_eq_true ⟨h.2.1, h.2.2⟩] at C
  obtain ⟨⟨a0, a1⟩, ⟨p0, p1⟩, ⟨hc, n0, n1⟩⟩ := id h
  obtain ⟨d0, d1, _, _, _⟩ := ck_ok hc
  obtain ⟨D0, D1, D2⟩ := dv_bd hc n0 n1 p0 p1
  have HE : vE q p n d = (if vQ q p n d ≤ 1000000000000000 then 0 else 12) := by unfold vE; rw [if_pos h]
  have HV : vV q p n d = (if vQ q p n d ≤ 1000000000000000 then vQ q p n d else 0) := by unfold vV; rw [HE]; split <;> simp_all
  obtain ⟨s, hs⟩ : ∃ s, s = d - n := ⟨_, rfl⟩
  have es : wrap64 (d - n) = s := by rw [← hs]; exact wrap_sm (by omega) (by omega)
  have es2 : d - n = s := hs.symm
  have hQ : vQ q p n d = q * (p * s) / d := by rw [hs]; rfl
  rw [← hs] at D0 D1
  obtain ⟨D, hD⟩ : ∃ D, D = p * s := ⟨_, rfl⟩
  rw [← hD] at hQ D0 D1
  have wD : wrap64 (p * s) = D := by rw [← hD]; exact wrap_sm (by omega) (by omega)
  have QU := fun w => hide (refquo_any q D d w a0 a1 (by omega) (by omega) (by omega) (by omega))
  unfold QuoPost at QU
  have HQ := hide (show qB (q * D) d = decide (q * D / d ≤ 2000000000000000) ∧ qV (q * D) d = (if q * D / d ≤ 2000000000000000 then q * D / d else 0) from ⟨rfl, rfl⟩)
  rw [hQ] at HE HV
  generalize vV q p n d = V at *
  generalize vE q p n d = E at *
  generalize qV (q * D) d = V2 at *
  generalize qR (q * D) d = R2 at *
  generalize qB (q * D) d = B2 at *
  generalize q * D / d = Q at *
  have HR := hide (And.intro HV HE)
  clear h hn hd hc D2 HE HV hs hD hQ
  have QV := HQ.out
  have l0 : ¬ q < 0 := by omega
  have l1 : ¬ 1000000000000000 < q := by omega
  by_cases q1 : Q ≤ 2000000000000000
  · rw [decide_eq_true q1, if_pos q1] at QV
    rw [QV.1, QV.2] at QU
    clear QV HQ
    go_enter Try.func6, Try.ntmps6
    go_wp2_with fail
    refine (C _).out.mono ?_
    rintro e w1 ⟨rfl, hb⟩
    have c0 := (hb.cell (p := ⟨w.heap.size, 0, none⟩) (by simp)).trans (show _ = some (Value.int .i64 n) by simp [go_sem])
    have c1 := (hb.cell (p := ⟨w.heap.size, 1, none⟩) (by simp)).trans (show _ = some (Value.int .i64 d) by simp [go_sem])
    have HB1 := hide (show Below w.heap.size w w1 from ((Below.refl w.heap.size w).alloc (Nat.le_refl _) _).trans (hb.mono (by simp)))
    clear hb
    go_wp2_with fail
    refine (QU _).out.mono ?_
    rintro e w2 ⟨rfl, k2, rfl⟩
    by_cases q2 : 1000000000000000 < Q
    · go_wp2_with fail
      go_ret2
      exact ⟨ret_vv (by rw [HR.out.1, if_neg (by omega)]) (by rw [HR.out.2, if_neg (by omega)]), below_drewN HB1.out _⟩
    · go_wp2_with fail
      go_ret2
      exact ⟨ret_vv (by rw [HR.out.1, if_pos (by omega)]) (by rw [HR.out.2, if_pos (by omega)]), below_drewN HB1.out _⟩
  · rw [decide_eq_false q1, if_neg q1] at QV
    rw [QV.1, QV.2] at QU
    clear QV HQ
    go_enter Try.func6, Try.ntmps6
    go_wp2_with fail
    refine (C _).out.mono ?_
    rintro e w1 ⟨rfl, hb⟩
    have c0 := (hb.cell (p := ⟨w.heap.size, 0, none⟩) (by simp)).trans (show _ = some (Value.int .i64 n) by simp [go_sem])
    have c1 := (hb.cell (p := ⟨w.heap.size, 1, none⟩) (by simp)).trans (show _ = some (Value.int .i64 d) by simp [go_sem])
    have HB1 := hide (show Below w.heap.size w w1 from ((Below.refl w.heap.size w).alloc (Nat.le_refl _) _).trans (hb.mono (by simp)))
    clear hb
    go_wp2_with fail
    refine (QU _).out.mono ?_
    rintro e w2 ⟨rfl, k2, rfl⟩
    go_wp2_with fail
    go_ret2
    exact ⟨ret_vv (by rw [HR.out.1, if_neg (by omega)]) (by rw [HR.out.2, if_neg (by omega)]), below_drewN HB1.out _⟩

theorem rvalue_any (q p n d : Int) (w : World) (hn : I64 n) (hd : I64 d) :
    Calls Try.prog 6 #[.int .i64 q, .int .i64 p, .agg #[.int .i64 n, .int .i64 d]] w fun e w' => e = .returned (.tuple #[.int .i64 (vV q p n d), .int .i64 (vE q p n d)]) ∧ Below w.heap.size w w' := by
  by_cases h : inV q p n d
  · exact rvalue_yes q p n d w hn hd h
  · exact rvalue_no q p n d w hn hd h
end Go.Proofs.Ytjbpgpfhabefbaa
