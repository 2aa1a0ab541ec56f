/-
  The walk of IdentISINSubstitution.
-/
import Derived.Test.YtjcldaofgbcpaaaDoorWith
namespace Go.Proofs.YtjcldaofgbcpaaaDoor
open Go.RowKit
set_option linter.unusedVariables false

theorem split_at (l : List Int) (n i : Nat) (hi : i < n) (hl : n ≤ l.length) : l.take n = l.take i ++ l.getD i 0 :: (l.take n).drop (i + 1) := by
  have hl' : i < (l.take n).length := by rw [List.length_take]; omega
  have e := List.take_append_drop i (l.take n)
  rw [List.take_take, Nat.min_eq_left (by omega), List.drop_eq_getElem_cons hl', List.getElem_take] at e
  have g : l.getD i 0 = l[i]'(by omega) := by simp [List.getD, show i < l.length by omega]
  rw [g]
  exact e.symm
theorem split_put (l : List Int) (n i : Nat) (x : Int) (hi : i < n) (hl : n ≤ l.length) : (l.take i ++ x :: l.drop (i + 1)).take n = l.take i ++ x :: (l.take n).drop (i + 1) := by
  have h : (l.take i).length = i := by rw [List.length_take]; omega
  obtain ⟨m, hm⟩ : ∃ m, n - i = m + 1 := ⟨n - i - 1, by omega⟩
  rw [List.take_append, h, List.take_of_length_le (by omega), hm, List.take_succ_cons, List.drop_take, show n - (i + 1) = m by omega]
/-- Another digit in an ISIN is detected. -/
theorem isin_sub {s : ByteArray} {i : Nat} {c : UInt8} (hs : s.size = 12) (hi : i < 12) (h : okI 0 s = true) (x1 : 48 ≤ gB s i) (x2 : gB s i ≤ 57) (c1 : 48 ≤ (c.toNat : Int)) (c2 : (c.toNat : Int) ≤ 57) (hne : gB s i ≠ (c.toNat : Int)) : okI 0 (put1 s i c) = false := by
  cases hk : okI 0 (put1 s i c) with
  | false => rfl
  | true =>
    exfalso
    rw [okI0_iff] at h hk
    obtain ⟨_, e1⟩ := h
    obtain ⟨_, e2⟩ := hk
    have hz := put1_size s i c (by omega)
    by_cases hi11 : i = 11
    · subst hi11
      rw [gB_put1_eq s 11 c (by omega)] at e2
      rw [put1_head s 11 c (by omega)] at e2
      exact hne (e1.trans e2.symm)
    · rw [gB_put1_ne s i c 11 (by omega) (by omega) (by omega)] at e2
      have e3 : luhn (bl (s.extract 0 11)) = luhn (bl ((put1 s i c).extract 0 11)) := by omega
      rw [bl_cut s 11 (by omega), bl_cut (put1 s i c) 11 (by omega)] at e3
      have b1 := split_at (bl s) 11 i (by omega) (by rw [bl_len]; omega)
      have b2 := split_put (bl s) 11 i (c.toNat : Int) (by omega) (by rw [bl_len]; omega)
      rw [← gB_of_bl s i (by omega)] at b1
      rw [bl_put1 s i c (by omega)] at e3
      rw [b1, b2] at e3
      exact hne (luhn_sub _ _ x1 x2 c1 c2 e3)

set_option maxHeartbeats 4000000 in
set_option maxRecDepth 20000 in
theorem identISINSubstitution_walk (a0 : ByteArray) (a1 : Int) (a2 : Int) (w : World) (w0 : a0.size ≤ maxLen) (w1 : (Lit.int .u8 a1).wf = true) (w2 : (Lit.int .u8 a2).wf = true) (hL : laidMetH Tryd.prog laid w) :
    Calls Tryd.prog 9 #[.string a0, .int .u8 a1, .int .u8 a2] w fun e w' => e = .returned (.bool true) ∧ Below w.heap.size w w' := by
  have S := shp_of hL
  unfold maxLen at w0
  obtain ⟨p1, p2⟩ := wf_u8 w1
  obtain ⟨q1, q2⟩ := wf_u8 w2
  have SS := hide S
  have B0 := hide (Below.refl w.heap.size w)
  clear hL S w1 w2
  by_cases hs : a0.size = 12
  · have hsi : (a0.size : Int) = 12 := by omega
    have ok := fun w S => hide (ok_any 0 a0 w S (by omega))
    cases hk : okI 0 a0 with
    | false =>
      rw [hk] at ok
      go_enter Tryd.func9, Tryd.ntmps9
      go_wp2_with fail
      refine (ok _ SS.out).out.mono ?_
      rintro e w1 ⟨rfl, hb⟩
      have B1 := hide hb
      clear hb
      go_wp2_with fail
      refine (known_any _ (SS.out.keep B1.out)).mono ?_
      rintro e w2 ⟨rfl, hb⟩
      have B2 := hide (B1.out.trans (hb.mono B1.out.size))
      clear hb
      go_wp2_with fail
      go_ret
      exact ⟨rfl, B2.out⟩
    | true =>
      rw [hk] at ok
      obtain ⟨i, hi⟩ : ∃ i : Nat, (i : Int) = a1 % 12 := ⟨(a1 % 12).toNat, by omega⟩
      have hi12 : i < 12 := by omega
      have j1 := idx a0 i (by omega)
      have di := fun w => hide (ldig_any (gB a0 i) w)
      obtain ⟨g1, g2⟩ := gB_bd a0 i
      have t1 : a1 % 12 = (i : Int) := hi.symm
      have t2 : a1.tmod 12 = (i : Int) := by rw [Int.tmod_eq_emod_of_nonneg p1]; exact hi.symm
      have t3 : a2.tmod 10 = a2 % 10 := Int.tmod_eq_emod_of_nonneg q1
      have t4 : IntKind.u8.wrap (48 + a2 % 10) = 48 + a2 % 10 := by simp [IntKind.wrap, IntKind.bits, IntKind.signed]; omega
      have t5 : IntKind.u8.wrap (a2 % 10) = a2 % 10 := by simp [IntKind.wrap, IntKind.bits, IntKind.signed]; omega
      have ec := u8_nat (x := 48 + a2 % 10) (by omega) (by omega)
      have il : (i : Int) ≤ 11 := by omega
      by_cases hd : isD (gB a0 i) = true
      · rw [hd] at di
        have hdd : 48 ≤ gB a0 i ∧ gB a0 i ≤ 57 := by unfold isD at hd; simpa using hd
        by_cases heq : gB a0 i = 48 + a2 % 10
        · rw [heq] at j1 di
          clear hi hd hdd ec hk g1 g2
          go_enter Tryd.func9, Tryd.ntmps9
          go_wp2_with fail
          refine (ok _ SS.out).out.mono ?_
          rintro e w1 ⟨rfl, hb⟩
          have B1 := hide hb
          clear hb
          go_wp2_with fail
          refine (di _).out.mono ?_
          rintro e w2 ⟨rfl, rfl⟩
          go_wp2_with fail
          refine (known_any _ (SS.out.keep B1.out)).mono ?_
          rintro e w2 ⟨rfl, hb⟩
          have B2 := hide (B1.out.trans (hb.mono B1.out.size))
          clear hb
          go_wp2_with fail
          go_ret
          exact ⟨rfl, B2.out⟩
        · have hsub := isin_sub (c := UInt8.ofNat (48 + a2 % 10).toNat) hs hi12 hk hdd.1 hdd.2 (by rw [ec]; omega) (by rw [ec]; omega) (by rw [ec]; exact heq)
          have pz := put1_size a0 i (UInt8.ofNat (48 + a2 % 10).toNat) (by omega)
          have wi := fun w => hide (with_any a0 i (48 + a2 % 10) w (by omega) (by omega) (by omega) (by omega))
          have ok2 := fun w S => hide (ok_any 0 (put1 a0 i (UInt8.ofNat (48 + a2 % 10).toNat)) w S (by omega))
          rw [hsub] at ok2
          have hne : (gB a0 i == 48 + a2 % 10) = false := by simpa using heq
          clear hi hd hdd ec hk hsub pz heq
          generalize put1 a0 i (UInt8.ofNat (48 + a2 % 10).toNat) = P at *
          generalize gB a0 i = x at *
          go_enter Tryd.func9, Tryd.ntmps9
          go_wp2_with fail
          refine (ok _ SS.out).out.mono ?_
          rintro e w1 ⟨rfl, hb⟩
          have B1 := hide hb
          clear hb
          go_wp2_with fail
          refine (di _).out.mono ?_
          rintro e w2 ⟨rfl, rfl⟩
          go_wp2_with fail
          refine (known_any _ (SS.out.keep B1.out)).mono ?_
          rintro e w2 ⟨rfl, hb⟩
          have B2 := hide (B1.out.trans (hb.mono B1.out.size))
          clear hb
          go_wp2_with fail
          refine (wi _).out.mono ?_
          rintro e w3 ⟨rfl, hb⟩
          have B3 := hide (B2.out.trans (hb.mono B2.out.size))
          clear hb
          go_wp2_with fail
          refine (ok2 _ (SS.out.keep B3.out)).out.mono ?_
          rintro e w4 ⟨rfl, hb⟩
          have B4 := hide (B3.out.trans (hb.mono B3.out.size))
          clear hb
          go_wp2_with fail
          go_ret
          exact ⟨rfl, B4.out⟩
      · have hd' : isD (gB a0 i) = false := by simpa using hd
        rw [hd'] at di
        clear hi hd hd' ec hk
        generalize gB a0 i = x at *
        go_enter Tryd.func9, Tryd.ntmps9
        go_wp2_with fail
        refine (ok _ SS.out).out.mono ?_
        rintro e w1 ⟨rfl, hb⟩
        have B1 := hide hb
        clear hb
        go_wp2_with fail
        refine (di _).out.mono ?_
        rintro e w2 ⟨rfl, rfl⟩
        go_wp2_with fail
        refine (known_any _ (SS.out.keep B1.out)).mono ?_
        rintro e w2 ⟨rfl, hb⟩
        have B2 := hide (B1.out.trans (hb.mono B1.out.size))
        clear hb
        go_wp2_with fail
        go_ret
        exact ⟨rfl, B2.out⟩
  · have hsi : ¬ (a0.size : Int) = 12 := by omega
    go_enter Tryd.func9, Tryd.ntmps9
    go_wp2_with fail
    refine (known_any _ SS.out).mono ?_
    rintro e w2 ⟨rfl, hb⟩
    have B2 := hide hb
    clear hb
    go_wp2_with fail
    go_ret
    exact ⟨rfl, B2.out⟩
end Go.Proofs.YtjcldaofgbcpaaaDoor
