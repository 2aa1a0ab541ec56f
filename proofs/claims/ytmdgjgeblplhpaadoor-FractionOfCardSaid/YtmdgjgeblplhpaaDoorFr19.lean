/-
  Contract of the reference's Of at this translation. Conditions: the arguments fit their kinds.
-/
import Derived.Test.YtmdgjgeblplhpaaDoorFr18
namespace Go.Proofs.YtmdgjgeblplhpaaDoor
open Go.RowKit
set_option linter.unusedVariables false
set_option linter.unusedSimpArgs false

theorem refof_bad (n d x m : Int) (w : World) (hn : I64 n) (hd : I64 d) (h : ckE n d ≠ 0) :
    Calls Tryd.prog 25 #[.agg #[.int .i64 n, .int .i64 d], .int .i64 x, .int .i64 m] w (OfPost n d x m w) := by
  have C := fun w => hide (rcheck_any n d w hn.1 hn.2 hd.1 hd.2)
  have F : ∀ w', Hid (Below w.heap.size w w' → OfPost n d x m w (.returned (.tuple #[.int .i64 0, .agg #[.int .i64 0, .int .i64 0], .int .i64 (ckE n d)])) w') := fun w' => hide (fun hb => ofpost_no (by simp [ofE, h]) h hb)
  generalize ckE n d = X at *
  have e1 : (X == 0) = false := by simpa using h
  have e2 : (X != 0) = true := by simpa using h
  clear h hn hd
  generalize OfPost n d x m w = R at *
  go_enter Tryd.func25, Tryd.ntmps25
  go_wp2_with fail
  refine (C _).out.mono ?_
  rintro e w1 ⟨rfl, hb⟩
  have c4 := (hb.cell (p := ⟨w.heap.size + 1, 0, none⟩) (by simp)).trans (show _ = some (Value.int .i64 0) by simp [go_sem])
  have c5 := (hb.cell (p := ⟨w.heap.size + 1, 1, none⟩) (by simp)).trans (show _ = some (Value.int .i64 0) by simp [go_sem])
  have z0 := (hb.frozen (p := ⟨w.heap.size + 1, 0, none⟩) (by simp)).trans (show _ = false by simp [go_sem])
  have z2 := (hb.frozen (p := ⟨w.heap.size + 1, 1, none⟩) (by simp)).trans (show _ = false by simp [go_sem])
  have HB1 := hide (show Below w.heap.size w w1 from (((Below.refl w.heap.size w).alloc (Nat.le_refl _) _).alloc (by simp) _).trans (hb.mono (by simp; omega)))
  clear hb
  go_wp2_with fail
  exact bodyPost_ret (v := .tuple #[.int .i64 0, .agg #[.int .i64 0, .int .i64 0], .int .i64 X]) (by simp [results, Tryd.results25, go_sem, c4, c5]) rfl
    ((F _).out (by have := HB1.out; repeat' (first | exact this | refine Below.setCell ?_ ?_ _ | (simp; done) | (simp; omega))))

theorem refof_mode (n d x m : Int) (w : World) (hn : I64 n) (hd : I64 d) (h : ckE n d = 0) (hm : m < 0 ∨ 3 < m) :
    Calls Tryd.prog 25 #[.agg #[.int .i64 n, .int .i64 d], .int .i64 x, .int .i64 m] w (OfPost n d x m w) := by
  have C := fun w => hide (rcheck_any n d w hn.1 hn.2 hd.1 hd.2)
  have F : ∀ w', Hid (Below w.heap.size w w' → OfPost n d x m w (.returned (.tuple #[.int .i64 0, .agg #[.int .i64 0, .int .i64 0], .int .i64 2])) w') := fun w' => hide (fun hb => ofpost_no (by simp [ofE, h, hm]) (by decide) hb)
  rw [h] at C
  clear h hn hd
  generalize OfPost n d x m w = R at *
  rcases hm with hm | hm
  · go_enter Tryd.func25, Tryd.ntmps25
    go_wp2_with fail
    refine (C _).out.mono ?_
    rintro e w1 ⟨rfl, hb⟩
    have c4 := (hb.cell (p := ⟨w.heap.size + 1, 0, none⟩) (by simp)).trans (show _ = some (Value.int .i64 0) by simp [go_sem])
    have c5 := (hb.cell (p := ⟨w.heap.size + 1, 1, none⟩) (by simp)).trans (show _ = some (Value.int .i64 0) by simp [go_sem])
    have z0 := (hb.frozen (p := ⟨w.heap.size + 1, 0, none⟩) (by simp)).trans (show _ = false by simp [go_sem])
    have z2 := (hb.frozen (p := ⟨w.heap.size + 1, 1, none⟩) (by simp)).trans (show _ = false by simp [go_sem])
    have HB1 := hide (show Below w.heap.size w w1 from (((Below.refl w.heap.size w).alloc (Nat.le_refl _) _).alloc (by simp) _).trans (hb.mono (by simp; omega)))
    clear hb
    go_wp2_with fail
    exact bodyPost_ret (v := .tuple #[.int .i64 0, .agg #[.int .i64 0, .int .i64 0], .int .i64 2]) (by simp [results, Tryd.results25, go_sem, c4, c5]) rfl
      ((F _).out (by have := HB1.out; repeat' (first | exact this | refine Below.setCell ?_ ?_ _ | (simp; done) | (simp; omega))))
  · have m0 : ¬ m < 0 := by omega
    have m1 : 4 ≤ m := by omega
    go_enter Tryd.func25, Tryd.ntmps25
    go_wp2_with fail
    refine (C _).out.mono ?_
    rintro e w1 ⟨rfl, hb⟩
    have c4 := (hb.cell (p := ⟨w.heap.size + 1, 0, none⟩) (by simp)).trans (show _ = some (Value.int .i64 0) by simp [go_sem])
    have c5 := (hb.cell (p := ⟨w.heap.size + 1, 1, none⟩) (by simp)).trans (show _ = some (Value.int .i64 0) by simp [go_sem])
    have z0 := (hb.frozen (p := ⟨w.heap.size + 1, 0, none⟩) (by simp)).trans (show _ = false by simp [go_sem])
    have z2 := (hb.frozen (p := ⟨w.heap.size + 1, 1, none⟩) (by simp)).trans (show _ = false by simp [go_sem])
    have HB1 := hide (show Below w.heap.size w w1 from (((Below.refl w.heap.size w).alloc (Nat.le_refl _) _).alloc (by simp) _).trans (hb.mono (by simp; omega)))
    clear hb
    go_wp2_with fail
    exact bodyPost_ret (v := .tuple #[.int .i64 0, .agg #[.int .i64 0, .int .i64 0], .int .i64 2]) (by simp [results, Tryd.results25, go_sem, c4, c5]) rfl
      ((F _).out (by have := HB1.out; repeat' (first | exact this | refine Below.setCell ?_ ?_ _ | (simp; done) | (simp; omega))))

theorem refof_amount (n d x m : Int) (w : World) (hn : I64 n) (hd : I64 d) (h : ckE n d = 0) (m1 : 0 ≤ m) (m2 : m ≤ 3) (hx : amA x = false) :
    Calls Tryd.prog 25 #[.agg #[.int .i64 n, .int .i64 d], .int .i64 x, .int .i64 m] w (OfPost n d x m w) := by
  have C := fun w => hide (rcheck_any n d w hn.1 hn.2 hd.1 hd.2)
  have F : ∀ w', Hid (Below w.heap.size w w' → OfPost n d x m w (.returned (.tuple #[.int .i64 0, .agg #[.int .i64 0, .int .i64 0], .int .i64 12])) w') := fun w' => hide (fun hb => ofpost_no (by simp [ofE, h, hx]; omega) (by decide) hb)
  have hx2 : x < -1000000000000000 ∨ (¬ x < -1000000000000000 ∧ 1000000000000000 < x) := by
    by_cases g : x < -1000000000000000
    · exact Or.inl g
    · refine Or.inr ⟨g, ?_⟩
      apply Classical.byContradiction
      intro c
      have := amA_iff.2 (show -1000000000000000 ≤ x ∧ x ≤ 1000000000000000 by omega)
      rw [hx] at this; exact absurd this (by decide)
  rw [h] at C
  have m3 : ¬ m < 0 := by omega
  have m4 : ¬ 3 < m := by omega
  clear h hn hd hx
  generalize OfPost n d x m w = R at *
  rcases hx2 with g | ⟨g, g2⟩
  · go_enter Tryd.func25, Tryd.ntmps25
    go_wp2_with fail
    refine (C _).out.mono ?_
    rintro e w1 ⟨rfl, hb⟩
    have c4 := (hb.cell (p := ⟨w.heap.size + 1, 0, none⟩) (by simp)).trans (show _ = some (Value.int .i64 0) by simp [go_sem])
    have c5 := (hb.cell (p := ⟨w.heap.size + 1, 1, none⟩) (by simp)).trans (show _ = some (Value.int .i64 0) by simp [go_sem])
    have z0 := (hb.frozen (p := ⟨w.heap.size + 1, 0, none⟩) (by simp)).trans (show _ = false by simp [go_sem])
    have z2 := (hb.frozen (p := ⟨w.heap.size + 1, 1, none⟩) (by simp)).trans (show _ = false by simp [go_sem])
    have sz1 : w.heap.size + 2 ≤ w1.heap.size := by have := hb.size; simp at this; omega
    have HB1 := hide (show Below w.heap.size w w1 from (((Below.refl w.heap.size w).alloc (Nat.le_refl _) _).alloc (by simp) _).trans (hb.mono (by simp; omega)))
    clear hb
    go_wp2_with fail
    exact bodyPost_ret (v := .tuple #[.int .i64 0, .agg #[.int .i64 0, .int .i64 0], .int .i64 12]) (by simp [results, Tryd.results25, go_sem, c4, c5]) rfl
      ((F _).out (by have := HB1.out; repeat' (first | exact this | refine Below.setCell ?_ ?_ _ | refine below_draw ?_ _ | refine Below.alloc ?_ ?_ _ | omega | (simp; done) | (simp; omega))))
  · go_enter Tryd.func25, Tryd.ntmps25
    go_wp2_with fail
    refine (C _).out.mono ?_
    rintro e w1 ⟨rfl, hb⟩
    have c4 := (hb.cell (p := ⟨w.heap.size + 1, 0, none⟩) (by simp)).trans (show _ = some (Value.int .i64 0) by simp [go_sem])
    have c5 := (hb.cell (p := ⟨w.heap.size + 1, 1, none⟩) (by simp)).trans (show _ = some (Value.int .i64 0) by simp [go_sem])
    have z0 := (hb.frozen (p := ⟨w.heap.size + 1, 0, none⟩) (by simp)).trans (show _ = false by simp [go_sem])
    have z2 := (hb.frozen (p := ⟨w.heap.size + 1, 1, none⟩) (by simp)).trans (show _ = false by simp [go_sem])
    have sz1 : w.heap.size + 2 ≤ w1.heap.size := by have := hb.size; simp at this; omega
    have HB1 := hide (show Below w.heap.size w w1 from (((Below.refl w.heap.size w).alloc (Nat.le_refl _) _).alloc (by simp) _).trans (hb.mono (by simp; omega)))
    clear hb
    go_wp2_with fail
    exact bodyPost_ret (v := .tuple #[.int .i64 0, .agg #[.int .i64 0, .int .i64 0], .int .i64 12]) (by simp [results, Tryd.results25, go_sem, c4, c5]) rfl
      ((F _).out (by have := HB1.out; repeat' (first | exact this | refine Below.setCell ?_ ?_ _ | refine below_draw ?_ _ | refine Below.alloc ?_ ?_ _ | omega | (simp; done) | (simp; omega))))

set_option maxHeartbeats 8000000 in
set_option maxRecDepth 8000 in
theorem refof_in (n d x m : Int) (w : World) (hn : I64 n) (hd : I64 d) (h : ckE n d = 0) (m1 : 0 ≤ m) (m2 : m ≤ 3) (hx : amA x = true) :
    Calls Tryd.prog 25 #[.agg #[.int .i64 n, .int .i64 d], .int .i64 x, .int .i64 m] w (OfPost n d x m w) := by
  have C := fun w => hide (rcheck_any n d w hn.1 hn.2 hd.1 hd.2)
  have M := mag_of h m1 m2 hx
  obtain ⟨x1, x2⟩ := amA_iff.1 hx
  obtain ⟨d0, d1, n0, n1, _⟩ := ck_ok h
  have SX := fun w => hide (size_any x w (by omega) (by omega))
  have SN := fun w => hide (size_any n w (by omega) (by omega))
  have DV := fun w => hide (refdiv_any (x.natAbs : Int) (n.natAbs : Int) d w (by omega) (by omega) (by omega) (by omega) (by omega) (by omega))
  unfold DvPost at DV
  have eP : (x.natAbs : Int) * (n.natAbs : Int) = magP x n := rfl
  rw [eP] at DV
  obtain ⟨Mb, Mo, q0, q1, r0, r1⟩ := M
  have F1 : ∀ w', Hid (1000000000000000 < dvQ (magP x n) d + (if rupB (ngB x n) (dvQ (magP x n) d) (magP x n % d) d m then 1 else 0) → Below w.heap.size w w' → OfPost n d x m w (.returned (.tuple #[.int .i64 0, .agg #[.int .i64 0, .int .i64 0], .int .i64 12])) w') :=
    fun w' => hide (fun g hb => ofpost_no (Mb g) (by decide) hb)
  have F2 : ∀ w', Hid (dvQ (magP x n) d + (if rupB (ngB x n) (dvQ (magP x n) d) (magP x n % d) d m then 1 else 0) ≤ 1000000000000000 → Below w.heap.size w w' → OfPost n d x m w (.returned (.tuple #[.int .i64 (sgv (ngB x n) (dvQ (magP x n) d + (if rupB (ngB x n) (dvQ (magP x n) d) (magP x n % d) d m then 1 else 0))), .agg #[.int .i64 (nwN (sgv (ngB x n) (magP x n % d - (if rupB (ngB x n) (dvQ (magP x n) d) (magP x n % d) d m then 1 else 0) * d)) d), .int .i64 (nwD (sgv (ngB x n) (magP x n % d - (if rupB (ngB x n) (dvQ (magP x n) d) (magP x n % d) d m then 1 else 0) * d)) d)], .int .i64 0])) w') :=
    fun w' => hide (fun g hb => by
      obtain ⟨a, b, c, e⟩ := Mo g
      exact ⟨ret_of b.symm c.symm e.symm a.symm, hb⟩)
  have NW : ∀ a : Int, -d ≤ a → a ≤ d → ∀ w, Hid (Calls Tryd.prog 13 #[.int .i64 a, .int .i64 d] w fun e w' => e = .returned (.tuple #[.agg #[.int .i64 (nwN a d), .int .i64 (nwD a d)], .int .i64 (nwE a d)]) ∧ Below w.heap.size w w') :=
    fun a h1 h2 w => hide (rnew_any a d w (by unfold I64; omega) hd)
  have HNG : Hid (ngB x n = (decide (x < 0) != decide (n < 0))) := hide rfl
  have HUP : ∀ g q r, Hid (rupB g q r d m = if m = 0 then g && decide (0 < r) else if m = 1 then !g && decide (0 < r) else if m = 2 then (decide (d < 2 * r) || (decide (2 * r = d) && decide (q % 2 = 1))) else false) := fun _ _ _ => hide rfl
  rw [h] at C
  have l1 : ¬ m < 0 := by omega
  have l2 : ¬ 3 < m := by omega
  have l3 : ¬ x < -1000000000000000 := by omega
  have l4 : ¬ 1000000000000000 < x := by omega
  clear h hn hd hx Mb Mo eP
  generalize OfPost n d x m w = RR at *
  generalize dvQ (magP x n) d = Q at *
  generalize magP x n % d = R at *
  obtain ⟨NG, hng⟩ : ∃ NG, NG = ngB x n := ⟨_, rfl⟩
  rw [← hng] at HNG F1 F2
  clear hng
  obtain ⟨UP, hup⟩ : ∃ UP, UP = rupB NG Q R d m := ⟨_, rfl⟩
  have HUP := hide (hup.trans (HUP NG Q R).out)
  rw [← hup] at F1 F2
  clear hup
  go_enter Tryd.func25, Tryd.ntmps25
  go_wp2_with fail
  refine (C _).out.mono ?_
  rintro e w1 ⟨rfl, hb⟩
  have c0 := (hb.cell (p := ⟨w.heap.size, 0, none⟩) (by simp; omega)).trans (show _ = some (Value.int .i64 n) by simp [go_sem])
  have c1 := (hb.cell (p := ⟨w.heap.size, 1, none⟩) (by simp; omega)).trans (show _ = some (Value.int .i64 d) by simp [go_sem])
  have c4 := (hb.cell (p := ⟨w.heap.size + 1, 0, none⟩) (by simp)).trans (show _ = some (Value.int .i64 0) by simp [go_sem])
  have c5 := (hb.cell (p := ⟨w.heap.size + 1, 1, none⟩) (by simp)).trans (show _ = some (Value.int .i64 0) by simp [go_sem])
  have z0 := (hb.frozen (p := ⟨w.heap.size + 1, 0, none⟩) (by simp)).trans (show _ = false by simp [go_sem])
  have z2 := (hb.frozen (p := ⟨w.heap.size + 1, 1, none⟩) (by simp)).trans (show _ = false by simp [go_sem])
  have sz1 : w.heap.size + 2 ≤ w1.heap.size := by have := hb.size; simp at this; omega
  have HB1 := hide (show Below w.heap.size w w1 from (((Below.refl w.heap.size w).alloc (Nat.le_refl _) _).alloc (by simp) _).trans (hb.mono (by simp; omega)))
  clear hb
  go_wp2_with fail
  go_quiet (first | (go_at_call_of 31 (Value.int .i64 x); exact quiet_left (SX _).out) | (go_at_call_of 31 (Value.int .i64 n); exact quiet_left (SN _).out) | (go_at_call 42; exact quiet_draw (DV _).out))
  go_upto_region 9 with fail
  go_cut [12] (fun c wx => c = .bool NG ∧ w1.drewN nq = wx)
  case first =>
    go_wp2_with fail
    go_meet
    case rel => exact ⟨congrArg Value.bool HNG.out.symm, rfl⟩
  case rest =>
  obtain ⟨rfl, rfl⟩ := hcut
  clear HNG
  go_upto_block 0 with fail
  go_cut [13] (fun c wx => c = .bool UP ∧ w1.drewN nq = wx)
  case first =>
    have hm : m = 0 ∨ m = 1 ∨ m = 2 ∨ m = 3 := by omega
    rcases hm with hm | hm | hm | hm
    · have e0 : (m == 0) = true := by simpa using hm
      have HU := hide (show UP = (NG && decide (0 < R)) by rw [HUP.out, if_pos hm])
      clear hm HUP
      cases NG
      · go_wp2_with fail
        go_meet
        case rel => exact ⟨congrArg Value.bool (by rw [HU.out]; simp), rfl⟩
      · go_wp2_with fail
        go_meet
        case rel => exact ⟨congrArg Value.bool (by rw [HU.out]; simp), rfl⟩
    · have e0 : (m == 0) = false := by simp; omega
      have e1 : (m == 1) = true := by simpa using hm
      have HU := hide (show UP = (!NG && decide (0 < R)) by rw [HUP.out, if_neg (by omega), if_pos hm])
      clear hm HUP
      cases NG
      · go_wp2_with fail
        go_meet
        case rel => exact ⟨congrArg Value.bool (by rw [HU.out]; simp), rfl⟩
      · go_wp2_with fail
        go_meet
        case rel => exact ⟨congrArg Value.bool (by rw [HU.out]; simp), rfl⟩
    · have e0 : (m == 0) = false := by simp; omega
      have e1 : (m == 1) = false := by simp; omega
      have e2 : (m == 2) = true := by simpa using hm
      have HU := hide (show UP = (decide (d < 2 * R) || (decide (2 * R = d) && decide (Q % 2 = 1))) by rw [HUP.out, if_neg (by omega), if_neg (by omega), if_pos hm])
      clear hm HUP
      by_cases g1 : d < 2 * R
      · go_wp2_with fail
        go_meet
        case rel => exact ⟨congrArg Value.bool (by rw [HU.out, decide_eq_true g1]; simp), rfl⟩
      · by_cases g2 : 2 * R = d
        · have g3 : (2 * R == d) = true := by simpa using g2
          have HU := hide (show UP = decide (Q % 2 = 1) by rw [HU.out, decide_eq_false g1, decide_eq_true g2]; simp)
          clear g2
          go_wp2_with fail
          go_meet
          case rel => exact ⟨congrArg Value.bool (by rw [HU.out, Bool.eq_iff_iff]; simp), rfl⟩
        · have g3 : (2 * R == d) = false := by simpa using g2
          have HU := hide (show UP = false by rw [HU.out, decide_eq_false g1, decide_eq_false g2]; simp)
          clear g2
          go_wp2_with fail
          go_meet
          case rel => exact ⟨congrArg Value.bool (by rw [HU.out]), rfl⟩
    · have e0 : (m == 0) = false := by simp; omega
      have e1 : (m == 1) = false := by simp; omega
      have e2 : (m == 2) = false := by simp; omega
      have HU := hide (show UP = false by rw [HUP.out, if_neg (by omega), if_neg (by omega), if_neg (by omega)])
      clear hm HUP
      go_wp2_with fail
      go_meet
      case rel => exact ⟨congrArg Value.bool (by rw [HU.out]), rfl⟩
  case rest =>
  obtain ⟨rfl, rfl⟩ := hcut
  clear HUP
  cases NG <;> cases UP
  · have G1 := fun w' => hide (fun (g : 1000000000000000 < Q + 0) => (F1 w').out (by simpa using g))
    have G2 := fun w' => hide (fun (g : Q + 0 ≤ 1000000000000000) => (F2 w').out (by simpa using g))
    simp only [sgv, if_true, Bool.false_eq_true, if_false, Int.zero_mul, Int.one_mul, Int.sub_zero, Int.add_zero] at G1 G2
    clear F1 F2
    by_cases g : 1000000000000000 < Q
    · have f := G1
      clear G1 G2 NW
      go_wp2_with fail
      exact bodyPost_ret (v := .tuple #[.int .i64 0, .agg #[.int .i64 0, .int .i64 0], .int .i64 12]) (by simp [results, Tryd.results25, go_sem, c4, c5]) rfl
        ((f _).out g (by have := below_draw HB1.out nq; repeat' (first | exact this | refine Below.setCell ?_ ?_ _ | refine below_draw ?_ _ | refine Below.alloc ?_ ?_ _ | omega | (simp; done) | (simp; omega))))
    · have f := fun w' => hide ((G2 w').out (by omega))
      have NR := fun w => hide (NW (R) (by omega) (by omega) w).out
      clear G1 G2 NW
      generalize nwN (R) d = A at *
      generalize nwD (R) d = B at *
      generalize nwE (R) d = EE at *
      go_wp2_with fail
      refine (NR _).out.mono ?_
      rintro e w5 ⟨rfl, hb⟩
      have c4 := (hb.cell (p := ⟨w.heap.size + 1, 0, none⟩) (by simp; omega)).trans (show _ = some (Value.int .i64 0) by simpa using c4)
      have c5 := (hb.cell (p := ⟨w.heap.size + 1, 1, none⟩) (by simp; omega)).trans (show _ = some (Value.int .i64 0) by simpa using c5)
      have z0 := (hb.frozen (p := ⟨w.heap.size + 1, 0, none⟩) (by simp; omega)).trans (show _ = false by simpa using z0)
      have z2 := (hb.frozen (p := ⟨w.heap.size + 1, 1, none⟩) (by simp; omega)).trans (show _ = false by simpa using z2)
      have sz5 : w.heap.size + 2 ≤ w5.heap.size := by have := hb.size; simp at this; omega
      have HB5 := hide ((below_draw HB1.out nq).trans (hb.mono (by have := HB1.out.size; simp; omega)))
      clear hb
      go_wp2_with fail
      have k4 : ∀ o, (w5.alloc o).cell? ⟨w.heap.size + 1, 0, none⟩ = some (Value.int .i64 0) := fun o => (((Below.refl w5.heap.size w5).alloc (Nat.le_refl _) o).cell (p := ⟨w.heap.size + 1, 0, none⟩) (by simp; omega)).trans c4
      have k5 : ∀ o, (w5.alloc o).cell? ⟨w.heap.size + 1, 1, none⟩ = some (Value.int .i64 0) := fun o => (((Below.refl w5.heap.size w5).alloc (Nat.le_refl _) o).cell (p := ⟨w.heap.size + 1, 1, none⟩) (by simp; omega)).trans c5
      have y0 : ∀ o, (w5.alloc o).frozen? ⟨w.heap.size + 1, 0, none⟩ = false := fun o => (((Below.refl w5.heap.size w5).alloc (Nat.le_refl _) o).frozen (p := ⟨w.heap.size + 1, 0, none⟩) (by simp; omega)).trans z0
      have y2 : ∀ o, (w5.alloc o).frozen? ⟨w.heap.size + 1, 1, none⟩ = false := fun o => (((Below.refl w5.heap.size w5).alloc (Nat.le_refl _) o).frozen (p := ⟨w.heap.size + 1, 1, none⟩) (by simp; omega)).trans z2
      go_region
      go_wp2_with fail
      exact bodyPost_ret (v := .tuple #[.int .i64 ((Q)), .agg #[.int .i64 A, .int .i64 B], .int .i64 0]) (by simp [results, Tryd.results25, go_sem, k4, k5]) rfl
        ((f _).out (by have := HB5.out; repeat' (first | exact this | refine Below.setCell ?_ ?_ _ | refine below_draw ?_ _ | refine Below.alloc ?_ ?_ _ | omega | (simp; done) | (simp; omega))))
  · have G1 := fun w' => hide (fun (g : 1000000000000000 < Q + 1) => (F1 w').out (by simpa using g))
    have G2 := fun w' => hide (fun (g : Q + 1 ≤ 1000000000000000) => (F2 w').out (by simpa using g))
    simp only [sgv, if_true, Bool.false_eq_true, if_false, Int.zero_mul, Int.one_mul, Int.sub_zero, Int.add_zero] at G1 G2
    clear F1 F2
    by_cases g : 1000000000000000 < Q + 1
    · have f := G1
      clear G1 G2 NW
      go_wp2_with fail
      exact bodyPost_ret (v := .tuple #[.int .i64 0, .agg #[.int .i64 0, .int .i64 0], .int .i64 12]) (by simp [results, Tryd.results25, go_sem, c4, c5]) rfl
        ((f _).out g (by have := below_draw HB1.out nq; repeat' (first | exact this | refine Below.setCell ?_ ?_ _ | refine below_draw ?_ _ | refine Below.alloc ?_ ?_ _ | omega | (simp; done) | (simp; omega))))
    · have f := fun w' => hide ((G2 w').out (by omega))
      have NR := fun w => hide (NW ((R - d)) (by omega) (by omega) w).out
      clear G1 G2 NW
      generalize nwN ((R - d)) d = A at *
      generalize nwD ((R - d)) d = B at *
      generalize nwE ((R - d)) d = EE at *
      go_wp2_with fail
      refine (NR _).out.mono ?_
      rintro e w5 ⟨rfl, hb⟩
      have c4 := (hb.cell (p := ⟨w.heap.size + 1, 0, none⟩) (by simp; omega)).trans (show _ = some (Value.int .i64 0) by simpa using c4)
      have c5 := (hb.cell (p := ⟨w.heap.size + 1, 1, none⟩) (by simp; omega)).trans (show _ = some (Value.int .i64 0) by simpa using c5)
      have z0 := (hb.frozen (p := ⟨w.heap.size + 1, 0, none⟩) (by simp; omega)).trans (show _ = false by simpa using z0)
      have z2 := (hb.frozen (p := ⟨w.heap.size + 1, 1, none⟩) (by simp; omega)).trans (show _ = false by simpa using z2)
      have sz5 : w.heap.size + 2 ≤ w5.heap.size := by have := hb.size; simp at this; omega
      have HB5 := hide ((below_draw HB1.out nq).trans (hb.mono (by have := HB1.out.size; simp; omega)))
      clear hb
      go_wp2_with fail
      have k4 : ∀ o, (w5.alloc o).cell? ⟨w.heap.size + 1, 0, none⟩ = some (Value.int .i64 0) := fun o => (((Below.refl w5.heap.size w5).alloc (Nat.le_refl _) o).cell (p := ⟨w.heap.size + 1, 0, none⟩) (by simp; omega)).trans c4
      have k5 : ∀ o, (w5.alloc o).cell? ⟨w.heap.size + 1, 1, none⟩ = some (Value.int .i64 0) := fun o => (((Below.refl w5.heap.size w5).alloc (Nat.le_refl _) o).cell (p := ⟨w.heap.size + 1, 1, none⟩) (by simp; omega)).trans c5
      have y0 : ∀ o, (w5.alloc o).frozen? ⟨w.heap.size + 1, 0, none⟩ = false := fun o => (((Below.refl w5.heap.size w5).alloc (Nat.le_refl _) o).frozen (p := ⟨w.heap.size + 1, 0, none⟩) (by simp; omega)).trans z0
      have y2 : ∀ o, (w5.alloc o).frozen? ⟨w.heap.size + 1, 1, none⟩ = false := fun o => (((Below.refl w5.heap.size w5).alloc (Nat.le_refl _) o).frozen (p := ⟨w.heap.size + 1, 1, none⟩) (by simp; omega)).trans z2
      go_region
      go_wp2_with fail
      exact bodyPost_ret (v := .tuple #[.int .i64 ((Q + 1)), .agg #[.int .i64 A, .int .i64 B], .int .i64 0]) (by simp [results, Tryd.results25, go_sem, k4, k5]) rfl
        ((f _).out (by have := HB5.out; repeat' (first | exact this | refine Below.setCell ?_ ?_ _ | refine below_draw ?_ _ | refine Below.alloc ?_ ?_ _ | omega | (simp; done) | (simp; omega))))
  · have G1 := fun w' => hide (fun (g : 1000000000000000 < Q + 0) => (F1 w').out (by simpa using g))
    have G2 := fun w' => hide (fun (g : Q + 0 ≤ 1000000000000000) => (F2 w').out (by simpa using g))
    simp only [sgv, if_true, Bool.false_eq_true, if_false, Int.zero_mul, Int.one_mul, Int.sub_zero, Int.add_zero] at G1 G2
    clear F1 F2
    by_cases g : 1000000000000000 < Q
    · have f := G1
      clear G1 G2 NW
      go_wp2_with fail
      exact bodyPost_ret (v := .tuple #[.int .i64 0, .agg #[.int .i64 0, .int .i64 0], .int .i64 12]) (by simp [results, Tryd.results25, go_sem, c4, c5]) rfl
        ((f _).out g (by have := below_draw HB1.out nq; repeat' (first | exact this | refine Below.setCell ?_ ?_ _ | refine below_draw ?_ _ | refine Below.alloc ?_ ?_ _ | omega | (simp; done) | (simp; omega))))
    · have f := fun w' => hide ((G2 w').out (by omega))
      have NR := fun w => hide (NW (-R) (by omega) (by omega) w).out
      clear G1 G2 NW
      generalize nwN (-R) d = A at *
      generalize nwD (-R) d = B at *
      generalize nwE (-R) d = EE at *
      go_wp2_with fail
      refine (NR _).out.mono ?_
      rintro e w5 ⟨rfl, hb⟩
      have c4 := (hb.cell (p := ⟨w.heap.size + 1, 0, none⟩) (by simp; omega)).trans (show _ = some (Value.int .i64 0) by simpa using c4)
      have c5 := (hb.cell (p := ⟨w.heap.size + 1, 1, none⟩) (by simp; omega)).trans (show _ = some (Value.int .i64 0) by simpa using c5)
      have z0 := (hb.frozen (p := ⟨w.heap.size + 1, 0, none⟩) (by simp; omega)).trans (show _ = false by simpa using z0)
      have z2 := (hb.frozen (p := ⟨w.heap.size + 1, 1, none⟩) (by simp; omega)).trans (show _ = false by simpa using z2)
      have sz5 : w.heap.size + 2 ≤ w5.heap.size := by have := hb.size; simp at this; omega
      have HB5 := hide ((below_draw HB1.out nq).trans (hb.mono (by have := HB1.out.size; simp; omega)))
      clear hb
      go_wp2_with fail
      have k4 : ∀ o, (w5.alloc o).cell? ⟨w.heap.size + 1, 0, none⟩ = some (Value.int .i64 0) := fun o => (((Below.refl w5.heap.size w5).alloc (Nat.le_refl _) o).cell (p := ⟨w.heap.size + 1, 0, none⟩) (by simp; omega)).trans c4
      have k5 : ∀ o, (w5.alloc o).cell? ⟨w.heap.size + 1, 1, none⟩ = some (Value.int .i64 0) := fun o => (((Below.refl w5.heap.size w5).alloc (Nat.le_refl _) o).cell (p := ⟨w.heap.size + 1, 1, none⟩) (by simp; omega)).trans c5
      have y0 : ∀ o, (w5.alloc o).frozen? ⟨w.heap.size + 1, 0, none⟩ = false := fun o => (((Below.refl w5.heap.size w5).alloc (Nat.le_refl _) o).frozen (p := ⟨w.heap.size + 1, 0, none⟩) (by simp; omega)).trans z0
      have y2 : ∀ o, (w5.alloc o).frozen? ⟨w.heap.size + 1, 1, none⟩ = false := fun o => (((Below.refl w5.heap.size w5).alloc (Nat.le_refl _) o).frozen (p := ⟨w.heap.size + 1, 1, none⟩) (by simp; omega)).trans z2
      go_region
      go_wp2_with fail
      exact bodyPost_ret (v := .tuple #[.int .i64 (-(Q)), .agg #[.int .i64 A, .int .i64 B], .int .i64 0]) (by simp [results, Tryd.results25, go_sem, k4, k5]) rfl
        ((f _).out (by have := HB5.out; repeat' (first | exact this | refine Below.setCell ?_ ?_ _ | refine below_draw ?_ _ | refine Below.alloc ?_ ?_ _ | omega | (simp; done) | (simp; omega))))
  · have G1 := fun w' => hide (fun (g : 1000000000000000 < Q + 1) => (F1 w').out (by simpa using g))
    have G2 := fun w' => hide (fun (g : Q + 1 ≤ 1000000000000000) => (F2 w').out (by simpa using g))
    simp only [sgv, if_true, Bool.false_eq_true, if_false, Int.zero_mul, Int.one_mul, Int.sub_zero, Int.add_zero] at G1 G2
    clear F1 F2
    by_cases g : 1000000000000000 < Q + 1
    · have f := G1
      clear G1 G2 NW
      go_wp2_with fail
      exact bodyPost_ret (v := .tuple #[.int .i64 0, .agg #[.int .i64 0, .int .i64 0], .int .i64 12]) (by simp [results, Tryd.results25, go_sem, c4, c5]) rfl
        ((f _).out g (by have := below_draw HB1.out nq; repeat' (first | exact this | refine Below.setCell ?_ ?_ _ | refine below_draw ?_ _ | refine Below.alloc ?_ ?_ _ | omega | (simp; done) | (simp; omega))))
    · have f := fun w' => hide ((G2 w').out (by omega))
      have NR := fun w => hide (NW (-(R - d)) (by omega) (by omega) w).out
      clear G1 G2 NW
      generalize nwN (-(R - d)) d = A at *
      generalize nwD (-(R - d)) d = B at *
      generalize nwE (-(R - d)) d = EE at *
      go_wp2_with fail
      refine (NR _).out.mono ?_
      rintro e w5 ⟨rfl, hb⟩
      have c4 := (hb.cell (p := ⟨w.heap.size + 1, 0, none⟩) (by simp; omega)).trans (show _ = some (Value.int .i64 0) by simpa using c4)
      have c5 := (hb.cell (p := ⟨w.heap.size + 1, 1, none⟩) (by simp; omega)).trans (show _ = some (Value.int .i64 0) by simpa using c5)
      have z0 := (hb.frozen (p := ⟨w.heap.size + 1, 0, none⟩) (by simp; omega)).trans (show _ = false by simpa using z0)
      have z2 := (hb.frozen (p := ⟨w.heap.size + 1, 1, none⟩) (by simp; omega)).trans (show _ = false by simpa using z2)
      have sz5 : w.heap.size + 2 ≤ w5.heap.size := by have := hb.size; simp at this; omega
      have HB5 := hide ((below_draw HB1.out nq).trans (hb.mono (by have := HB1.out.size; simp; omega)))
      clear hb
      go_wp2_with fail
      have k4 : ∀ o, (w5.alloc o).cell? ⟨w.heap.size + 1, 0, none⟩ = some (Value.int .i64 0) := fun o => (((Below.refl w5.heap.size w5).alloc (Nat.le_refl _) o).cell (p := ⟨w.heap.size + 1, 0, none⟩) (by simp; omega)).trans c4
      have k5 : ∀ o, (w5.alloc o).cell? ⟨w.heap.size + 1, 1, none⟩ = some (Value.int .i64 0) := fun o => (((Below.refl w5.heap.size w5).alloc (Nat.le_refl _) o).cell (p := ⟨w.heap.size + 1, 1, none⟩) (by simp; omega)).trans c5
      have y0 : ∀ o, (w5.alloc o).frozen? ⟨w.heap.size + 1, 0, none⟩ = false := fun o => (((Below.refl w5.heap.size w5).alloc (Nat.le_refl _) o).frozen (p := ⟨w.heap.size + 1, 0, none⟩) (by simp; omega)).trans z0
      have y2 : ∀ o, (w5.alloc o).frozen? ⟨w.heap.size + 1, 1, none⟩ = false := fun o => (((Below.refl w5.heap.size w5).alloc (Nat.le_refl _) o).frozen (p := ⟨w.heap.size + 1, 1, none⟩) (by simp; omega)).trans z2
      go_region
      go_wp2_with fail
      exact bodyPost_ret (v := .tuple #[.int .i64 (-(Q + 1)), .agg #[.int .i64 A, .int .i64 B], .int .i64 0]) (by simp [results, Tryd.results25, go_sem, k4, k5]) rfl
        ((f _).out (by have := HB5.out; repeat' (first | exact this | refine Below.setCell ?_ ?_ _ | refine below_draw ?_ _ | refine Below.alloc ?_ ?_ _ | omega | (simp; done) | (simp; omega))))

theorem refof_any (n d x m : Int) (w : World) (hn : I64 n) (hd : I64 d) : Calls Tryd.prog 25 #[.agg #[.int .i64 n, .int .i64 d], .int .i64 x, .int .i64 m] w (OfPost n d x m w) := by
  by_cases h : ckE n d = 0
  · by_cases hm : m < 0 ∨ 3 < m
    · exact refof_mode n d x m w hn hd h hm
    · by_cases hx : amA x = true
      · exact refof_in n d x m w hn hd h (by omega) (by omega) hx
      · exact refof_amount n d x m w hn hd h (by omega) (by omega) (by simpa using hx)
  · exact refof_bad n d x m w hn hd h
end Go.Proofs.YtmdgjgeblplhpaaDoor
