/-
  The walk of DateWeeks.
-/
import Derived.Test.YtahfjhmgmpbmkacDoorDateCivilWalk
import Derived.Test.YtahfjhmgmpbmkacDoorRefFrom
namespace Go.Proofs.YtahfjhmgmpbmkacDoor
open Go.RowKit
set_option linter.unusedVariables false

/-- Y is the year of the Thursday t. -/
def YearOf (t Y : Int) : Prop := NY Y ≤ t ∧ t < NY (Y + 1) ∧ 1999 ≤ Y ∧ Y ≤ 2200
theorem yearOf_ex (t : Int) (h1 : -3 ≤ t) (h2 : t ≤ 73060) : ∃ Y, YearOf t Y := by
  by_cases a : t < 0
  · exact ⟨1999, by rw [ny_1999]; omega, by show t < NY 2000; rw [ny_2000]; omega, by omega, by omega⟩
  · by_cases b : 73048 < t
    · exact ⟨2200, by rw [ny_2200]; omega, by show t < NY 2201; rw [ny_2201]; omega, by omega, by omega⟩
    · obtain ⟨y, k, h⟩ := inMonth_ex t (by omega) (by omega)
      exact ⟨y, h.lo, h.hi, by have := h.y1; omega, by have := h.y2; omega⟩

theorem iso_no (n : Int) (w : World) (h : n < 0 ∨ 73048 < n) : Calls Tryd.prog 33 #[.int .i64 n] w fun e w' => e = .returned (.tuple #[.int .i64 0, .int .i64 0, .int .i64 2]) ∧ w = w' := by
  have v := fun w => hide (valid_any n w)
  have hb := dayB_no h
  rw [hb] at v
  clear h hb
  go_enter Tryd.func33, Tryd.ntmps33
  go_wp2_with fail
  refine (v _).out.mono ?_
  rintro e w' ⟨rfl, rfl⟩
  go_wp2_with fail
  exact bodyPost_ret (v := .tuple #[.int .i64 0, .int .i64 0, .int .i64 2]) (by simp [results, Tryd.results33, go_sem]) rfl ⟨rfl, rfl⟩

theorem year_same {t y Y : Int} {k : Nat} (h : InMonth t y k) (hY : YearOf t Y) : y = Y := by
  obtain ⟨a, b, _, _⟩ := hY
  have lo := h.lo
  have hi := h.hi
  rcases Int.lt_trichotomy y Y with c | c | c
  · have := ny_mono (show y + 1 ≤ Y by omega); omega
  · exact c
  · have := ny_mono (show Y + 1 ≤ y by omega); omega

set_option maxRecDepth 20000 in
theorem rweek_in (n t Y : Int) (w : World) (n1 : 0 ≤ n) (n2 : n ≤ 73048) (ht : t = n - wkd n + 3) (hY : YearOf t Y) :
    Calls Tryd.prog 34 #[.int .i64 n] w fun e w' => e = .returned (.tuple #[.int .i64 Y, .int .i64 ((t - NY Y) / 7 + 1)]) ∧ Below w.heap.size w w' := by
  have hw : wkd n = (n + 5) % 7 := by unfold wkd; rw [if_pos ⟨n1, n2⟩]
  have k1 : 0 ≤ wkd n := by rw [hw]; omega
  have k2 : wkd n ≤ 6 := by rw [hw]; omega
  have rw' := fun W => hide (rwkd_any n W n1 n2)
  by_cases a : t < 0
  · have h2 : t = -2 := by rw [hw] at ht; omega
    have hy : Y = 1999 := by
      obtain ⟨p, q, r, s⟩ := hY
      by_cases c : Y = 1999
      · exact c
      · have := ny_mono (show (2000 : Int) ≤ Y by omega); rw [ny_2000] at this; omega
    subst hy
    rw [h2, show (-2 - NY 1999) / 7 + 1 = 52 by rw [ny_1999]; decide]
    have hn : n - wkd n + 3 = -2 := by omega
    have hd : ((-2 : Int) + 359).tdiv 7 = 51 := by decide
    clear hw ht h2 hY a
    generalize wkd n = K at *
    obtain rfl : K = n + 5 := by omega
    clear hn
    go_enter Tryd.func34, Tryd.ntmps34
    go_wp2_with fail
    refine (rw' _).out.mono ?_
    rintro e w' ⟨rfl, rfl⟩
    go_wp2_with fail
    go_ret2
    have e1 : (n - (n + 5) + 3 + 359) / 7 + 1 = 52 := by omega
    exact ⟨by simp [e1], Below.refl _ _⟩
  · by_cases b : 73048 < t
    · have hy : Y = 2200 := by
        obtain ⟨p, q, r, s⟩ := hY
        by_cases c : Y = 2200
        · exact c
        · have := ny_mono (show Y + 1 ≤ 2200 by omega); rw [ny_2200] at this; omega
      subst hy
      have h7 : (t - NY 2200) / 7 + 1 = 1 := by rw [ny_2200]; omega
      rw [h7]
      clear hw hY h7
      generalize wkd n = K at *
      subst ht
      go_enter Tryd.func34, Tryd.ntmps34
      go_wp2_with fail
      refine (rw' _).out.mono ?_
      rintro e w' ⟨rfl, rfl⟩
      go_wp2_with fail
      go_ret2
      exact ⟨rfl, Below.refl _ _⟩
    · obtain ⟨y, k, h⟩ := inMonth_ex t (by omega) (by omega)
      obtain rfl := year_same h hY
      have rto := fun W => hide (rto_in t y k W h)
      have y1 := h.y1
      have y2 := h.y2
      have lo := h.lo
      have rf : ∀ W, Hid (Calls Tryd.prog 23 #[.agg #[.int .i64 y, .int .i64 1, .int .i64 1]] W fun e w' => e = .returned (.int .i64 (NY y)) ∧ Below W.heap.size W w') := fun W => by
        have := rfrom_in y 1 0 W y1 y2 (by decide) (by decide) (by decide)
        have e : NY y + cum y 0 + 1 - 1 = NY y := by simp [cum]
        rw [e] at this
        exact hide this
      have by1 := ny_bd y (by omega) (by omega)
      have hi := h.hi
      have hq : (t - NY y).tdiv 7 = (t - NY y) / 7 := Int.tdiv_eq_ediv_of_nonneg (by omega)
      have hq2 : 0 ≤ (t - NY y) / 7 ∧ (t - NY y) / 7 ≤ 20000 := by omega
      clear hw hY h hi
      generalize wkd n = K at *
      generalize t - NY y - cum y k + 1 = D at *
      have ht' := ht.symm
      clear ht
      generalize hA : NY y = A at *
      clear hA
      generalize hQ : (t - A) / 7 = Q at *
      clear hQ
      go_enter Tryd.func34, Tryd.ntmps34
      go_wp2_with fail
      refine (rw' _).out.mono ?_
      rintro e w' ⟨rfl, rfl⟩
      go_wp2_with fail
      refine (rto _).out.mono ?_
      rintro e w2 ⟨rfl, hb⟩
      have HB := hide (hb.alloc hb.size (.cells #[.int .i64 y, .int .i64 ((k : Int) + 1), .int .i64 D] 32))
      have H3 := hide (three_new w2 y ((k : Int) + 1) D 32)
      clear hb
      go_wp2_with fail
      refine (rf _).out.mono ?_
      rintro e w3 ⟨rfl, hb⟩
      obtain ⟨p0, p1, p2, _⟩ := H3.out.keep hb
      have HB2 := hide (HB.out.trans (hb.mono HB.out.size))
      clear hb
      generalize w2.heap.size = c at *
      go_wp2_with fail
      go_ret2
      exact ⟨rfl, HB2.out⟩

set_option maxRecDepth 20000 in
theorem dateWeeks_walk (a0 : Int) (w : World) (w0 : (Lit.int .i64 a0).wf = true) (hL : laidMetH Tryd.prog laid w) :
    Calls Tryd.prog 8 #[.int .i64 a0] w fun e w' => e = .returned (.bool true) ∧ Below w.heap.size w w' := by
  have T := tabs_of hL
  have kn := hide (known_any w T)
  have TT := hide T
  have dv := fun w => hide (day_any a0 w)
  clear T hL w0
  generalize dayV a0 = n at *
  have rd := fun W => hide (rday_any n W)
  by_cases hr : 0 ≤ n ∧ n ≤ 73048
  · obtain ⟨n1, n2⟩ := hr
    have db := dayB_yes n1 n2
    rw [db] at rd
    have hw : wkd n = (n + 5) % 7 := by unfold wkd; rw [if_pos ⟨n1, n2⟩]
    have k1 : 0 ≤ wkd n := by rw [hw]; omega
    have k2 : wkd n ≤ 6 := by rw [hw]; omega
    obtain ⟨t, ht⟩ : ∃ t, t = n - wkd n + 3 := ⟨_, rfl⟩
    obtain ⟨Y, hY⟩ := yearOf_ex t (by omega) (by omega)
    have is1 : ∀ W, Hid (Calls Tryd.prog 33 #[.int .i64 n] W fun e w' => e = .returned (.tuple #[.int .i64 Y, .int .i64 ((t - NY Y) / 7 + 1), .int .i64 0]) ∧ W = w') := fun W => by
      have := iso_in n Y W n1 n2 (by rw [← ht]; exact hY.1) (by rw [← ht]; exact hY.2.1) hY.2.2.1 hY.2.2.2
      rw [← ht] at this
      exact hide this
    have rwk := fun W => hide (rweek_in n t Y W n1 n2 ht hY)
    have wk := fun W => hide (wkd_any n W)
    have q1 : 1 ≤ (t - NY Y) / 7 + 1 ∧ (t - NY Y) / 7 + 1 ≤ 53 := by
      have := leap_01 Y
      have := hY.1
      have := hY.2.1
      split at * <;> omega
    by_cases hlast : n = 73048
    · subst hlast
      have is2 := fun W => hide (iso_no 73049 W (by omega))
      clear hw k1 k2 ht hY
      generalize (t - NY Y) / 7 + 1 = W1 at *
      generalize wkd 73048 = K at *
      go_enter Tryd.func8, Tryd.ntmps8
      go_wp2_with fail
      refine kn.out.mono ?_
      rintro e w1 ⟨rfl, hb⟩
      have HB := hide hb
      clear hb
      go_wp2_with fail
      refine (dv _).out.mono ?_
      rintro e w2 ⟨rfl, rfl⟩
      go_wp2_with fail
      refine (is1 _).out.mono ?_
      rintro e w3 ⟨rfl, rfl⟩
      go_wp2_with fail
      refine (rd _).out.mono ?_
      rintro e w4 ⟨rfl, rfl⟩
      go_wp2_with fail
      refine (rwk _).out.mono ?_
      rintro e w5 ⟨rfl, hb⟩
      have HB2 := hide (HB.out.trans (hb.mono HB.out.size))
      clear hb
      go_wp2_with fail
      refine (is2 _).out.mono ?_
      rintro e w6 ⟨rfl, rfl⟩
      go_wp2_with fail
      go_ret
      exact ⟨rfl, HB2.out⟩
    · have hw2 : wkd (n + 1) = (n + 6) % 7 := by unfold wkd; rw [if_pos (by omega)]; omega
      have n3 : n + 1 ≤ 73048 := by omega
      by_cases h6 : wkd n = 6
      · obtain ⟨Z, hZ⟩ := yearOf_ex (t + 7) (by omega) (by omega)
        have e7 : n + 1 - wkd (n + 1) + 3 = t + 7 := by rw [hw2]; rw [hw] at h6 ht; omega
        have is2 : ∀ W, Hid (Calls Tryd.prog 33 #[.int .i64 (n + 1)] W fun e w' => e = .returned (.tuple #[.int .i64 Z, .int .i64 ((t + 7 - NY Z) / 7 + 1), .int .i64 0]) ∧ W = w') := fun W => by
          have := iso_in (n + 1) Z W (by omega) n3 (by rw [e7]; exact hZ.1) (by rw [e7]; exact hZ.2.1) hZ.2.2.1 hZ.2.2.2
          rw [e7] at this
          exact hide this
        rw [h6] at wk
        by_cases hz : Z = Y
        · subst hz
          have hv : (t + 7 - NY Z) / 7 + 1 = (t - NY Z) / 7 + 1 + 1 := by omega
          rw [hv] at is2
          clear hw hw2 k1 k2 ht hY hZ hv e7 hlast h6
          generalize (t - NY Z) / 7 + 1 = W1 at *
          have hx : (W1 + 1 == W1) = false := by rw [beq_eq_false_iff_ne]; omega
          go_enter Tryd.func8, Tryd.ntmps8
          go_wp2_with fail
          refine kn.out.mono ?_
          rintro e w1 ⟨rfl, hb⟩
          have HB := hide hb
          clear hb
          go_wp2_with fail
          refine (dv _).out.mono ?_
          rintro e w2 ⟨rfl, rfl⟩
          go_wp2_with fail
          refine (is1 _).out.mono ?_
          rintro e w3 ⟨rfl, rfl⟩
          go_wp2_with fail
          refine (rd _).out.mono ?_
          rintro e w4 ⟨rfl, rfl⟩
          go_wp2_with fail
          refine (rwk _).out.mono ?_
          rintro e w5 ⟨rfl, hb⟩
          have HB2 := hide (HB.out.trans (hb.mono HB.out.size))
          clear hb
          go_wp2_with fail
          refine (is2 _).out.mono ?_
          rintro e w6 ⟨rfl, rfl⟩
          go_wp2_with fail
          refine (wk _).out.mono ?_
          rintro e w7 ⟨rfl, rfl⟩
          go_wp2_with fail
          go_ret
          exact ⟨rfl, HB2.out⟩
        · clear hw hw2 k1 k2 ht hY hZ e7 hlast h6
          have hz2 : decide (Z = Y) = false := decide_eq_false hz
          generalize (t - NY Y) / 7 + 1 = W1 at *
          generalize (t + 7 - NY Z) / 7 + 1 = W2 at *
          go_enter Tryd.func8, Tryd.ntmps8
          go_wp2_with fail
          refine kn.out.mono ?_
          rintro e w1 ⟨rfl, hb⟩
          have HB := hide hb
          clear hb
          go_wp2_with fail
          refine (dv _).out.mono ?_
          rintro e w2 ⟨rfl, rfl⟩
          go_wp2_with fail
          refine (is1 _).out.mono ?_
          rintro e w3 ⟨rfl, rfl⟩
          go_wp2_with fail
          refine (rd _).out.mono ?_
          rintro e w4 ⟨rfl, rfl⟩
          go_wp2_with fail
          refine (rwk _).out.mono ?_
          rintro e w5 ⟨rfl, hb⟩
          have HB2 := hide (HB.out.trans (hb.mono HB.out.size))
          clear hb
          go_wp2_with fail
          refine (is2 _).out.mono ?_
          rintro e w6 ⟨rfl, rfl⟩
          go_wp2_with fail
          refine (wk _).out.mono ?_
          rintro e w7 ⟨rfl, rfl⟩
          go_wp2_with fail
          go_ret
          exact ⟨rfl, HB2.out⟩
      · have e7 : n + 1 - wkd (n + 1) + 3 = t := by rw [hw2]; rw [hw] at h6 ht; omega
        have is2 : ∀ W, Hid (Calls Tryd.prog 33 #[.int .i64 (n + 1)] W fun e w' => e = .returned (.tuple #[.int .i64 Y, .int .i64 ((t - NY Y) / 7 + 1), .int .i64 0]) ∧ W = w') := fun W => by
          have := iso_in (n + 1) Y W (by omega) n3 (by rw [e7]; exact hY.1) (by rw [e7]; exact hY.2.1) hY.2.2.1 hY.2.2.2
          rw [e7] at this
          exact hide this
        clear hw hw2 k1 k2 ht hY e7 hlast
        generalize (t - NY Y) / 7 + 1 = W1 at *
        generalize wkd n = K at *
        have h62 : decide (K = 6) = false := decide_eq_false h6
        have hx : (K != 6) = true := by simpa using h6
        go_enter Tryd.func8, Tryd.ntmps8
        go_wp2_with fail
        refine kn.out.mono ?_
        rintro e w1 ⟨rfl, hb⟩
        have HB := hide hb
        clear hb
        go_wp2_with fail
        refine (dv _).out.mono ?_
        rintro e w2 ⟨rfl, rfl⟩
        go_wp2_with fail
        refine (is1 _).out.mono ?_
        rintro e w3 ⟨rfl, rfl⟩
        go_wp2_with fail
        refine (rd _).out.mono ?_
        rintro e w4 ⟨rfl, rfl⟩
        go_wp2_with fail
        refine (rwk _).out.mono ?_
        rintro e w5 ⟨rfl, hb⟩
        have HB2 := hide (HB.out.trans (hb.mono HB.out.size))
        clear hb
        go_wp2_with fail
        refine (is2 _).out.mono ?_
        rintro e w6 ⟨rfl, rfl⟩
        go_wp2_with fail
        refine (wk _).out.mono ?_
        rintro e w7 ⟨rfl, rfl⟩
        go_wp2_with fail
        go_ret
        exact ⟨rfl, HB2.out⟩
  · have is0 := fun W => hide (iso_no n W (by omega))
    have db := dayB_no (n := n) (by omega)
    rw [db] at rd
    clear hr db
    go_enter Tryd.func8, Tryd.ntmps8
    go_wp2_with fail
    refine kn.out.mono ?_
    rintro e w1 ⟨rfl, hb⟩
    have HB := hide hb
    clear hb
    go_wp2_with fail
    refine (dv _).out.mono ?_
    rintro e w2 ⟨rfl, rfl⟩
    go_wp2_with fail
    refine (is0 _).out.mono ?_
    rintro e w3 ⟨rfl, rfl⟩
    go_wp2_with fail
    refine (rd _).out.mono ?_
    rintro e w4 ⟨rfl, rfl⟩
    go_wp2_with fail
    go_ret
    exact ⟨rfl, HB.out⟩
end Go.Proofs.YtahfjhmgmpbmkacDoor
