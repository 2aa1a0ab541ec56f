/-
  The walk of RecordTruncation.
-/
import Derived.Test.YtgjdaipofekjfaaRH
import Derived.Test.YtgjdaipofekjfaaRecordEncodeWalk
namespace Go.Proofs.Ytgjdaipofekjfaa
open Go.RowKit
set_option linter.unusedVariables false
set_option linter.unusedSimpArgs false
set_option linter.unnecessarySimpa false

theorem RdL.pls {w : World} {v : Value} {L : List (List Nat)} (h : RdL w v L) (hs : Sm L) : Crc.Pls L := by
  intro p hp
  have h2 := hs.2 p hp
  refine ⟨?_, by omega⟩
  rcases h with ⟨_, rfl⟩ | ⟨vs, h⟩
  · cases hp
  · obtain ⟨i, hi, rfl⟩ := List.getElem_of_mem hp
    have := (h.2.2.1 i hi).1
    rwa [List.getD_eq_getElem?_getD, List.getElem?_eq_getElem hi] at this

theorem recs_len_le2 (L : List (List Nat)) (h : Sm L) : (Crc.recs L).length ≤ 5000 := by
  have g : ∀ k, k ≤ L.length → (Crc.recs (L.take k)).length ≤ k * 208 := by
    intro k
    induction k with
    | zero => intro _; simp [Crc.recs]
    | succ k ih =>
      intro hk
      rw [recs_take_succ hk, List.length_append, Crc.recd_len]
      have := ih (by omega)
      have := h.at (k := k) hk
      omega
  have := g L.length (Nat.le_refl _)
  rw [List.take_length] at this
  have := h.1
  omega

set_option maxHeartbeats 8000000 in
set_option maxRecDepth 100000 in
theorem recordTruncation_walk (a0 : Option Addr) (len0 cap0 : Nat) (a1 : Int) (w : World) (w0 : IsRows w a0 len0 cap0) (w1 : (Lit.int .u16 a1).wf = true) :
    Calls Try.prog 9 #[.slice a0 len0 cap0, .int .u16 a1] w fun e w' => e = .returned (.bool true) ∧ Below w.heap.size w w' := by
  have CU := hide (cut_any a0 len0 cap0 w w0)
  have KN := fun w => hide (known_any w)
  have b0 : 0 ≤ a1 ∧ a1 < 65536 := by
    have := w1
    simp [Lit.wf, IntKind.min, IntKind.max, IntKind.signed, IntKind.bits] at this
    omega
  obtain ⟨ba, bb⟩ := b0
  clear w0 w1
  go_enter Try.func9, Try.ntmps9
  go_wp2_with fail
  refine CU.out.mono ?_
  rintro e w1 ⟨v, L, rfl, hs, ho, hb⟩
  have HS := hide hs
  have B1 := hide hb
  have hrd := ho.rd (by have := hs.1; omega)
  have HR := hide hrd
  have HPL := hide (hrd.pls hs)
  obtain ⟨a, c, rfl⟩ := hrd.form
  have HA := fun k hk => hide (hrd.at (k := k) hk)
  have HF := fun k hk => hide (hrd.first (k := k) hk)
  have h20 : (L.length : Int) ≤ 20 := by have := hs.1; omega
  have EA := hide (encl_any _ L w1 hrd)
  clear hs ho hb hrd CU
  go_wp2_with fail
  refine EA.out.mono ?_
  intro e w2 he
  obtain ⟨b, rfl, ho2, hb2⟩ := he.yes' HS.out.ok
  have O2 := hide ho2.rd
  have B2 := hide hb2
  have hN := HS.out.recs (Nat.le_refl L.length)
  rw [List.take_length] at hN
  obtain ⟨bp, bc, hbf⟩ := ho2.form
  subst hbf
  have RT := fun k (hk : k < L.length) => hide (show (Crc.recs (L.take (k + 1))).length = (Crc.recs (L.take k)).length + (8 + (L.getD k []).length) by rw [recs_take_succ hk, List.length_append, Crc.recd_len])
  have RL := fun k (hk : k ≤ L.length) => hide (HS.out.recs hk)
  have SC := fun k n h1 h2 h3 h4 => hide (Crc.scan_cut HPL.out (k := k) (n := n) h1 h2 h3 h4)
  have PT := fun n (hn : n ≤ (Crc.recs L).length) => hide (O2.out.first rfl hn)
  clear he ho2 hb2 EA
  generalize hNN : (Crc.recs L).length = N at *
  have HNN := hide hNN
  obtain ⟨n, hn⟩ : ∃ n : Nat, a1 % ((N : Int) + 1) = (n : Int) := ⟨(a1 % ((N : Int) + 1)).toNat, by have := Int.emod_nonneg a1 (show ((N : Int) + 1) ≠ 0 by omega); omega⟩
  have hnN : n ≤ N := by have := Int.emod_lt_of_pos a1 (show 0 < (N : Int) + 1 by omega); omega
  have hni : (n : Int) ≤ 100000000 := by omega
  have HnN := hide hnN
  have hNi : (N : Int) ≤ 100000000 := by omega
  clear hNN hnN hN
  go_wp2_with fail
  go_loop [8, 9] (fun i z => ∃ k : Nat, k ≤ L.length ∧ i = .int .i64 k ∧ z = .int .i64 ((Crc.recs (L.take k)).length : Nat) ∧ Hid ((Crc.recs (L.take k)).length ≤ n)) (fun i _ => L.length - (intOf i).toNat)
  case atStart => exact ⟨0, Nat.zero_le _, rfl, rfl, hide (by simp [Crc.recs])⟩
  case round =>
    obtain ⟨k, hk, rfl, rfl, HK⟩ := hrel
    have HKR := RL k hk
    have hS : ((Crc.recs (L.take k)).length : Int) ≤ 100000000 := by have := HKR.out; omega
    by_cases hc : k < L.length ∧ (Crc.recs (L.take k)).length + (8 + (L.getD k []).length) ≤ n
    · obtain ⟨hlt, hle⟩ := hc
      obtain ⟨b', o, A, m, C, rfl, hb, hcell0, hr⟩ := (HA k hlt).out
      have hcell := (B2.out.cell (p := ⟨b', o + k, none⟩) hb.out).trans hcell0
      have RTk := RT k hlt
      have HLE := hide hle
      rw [hr.out.2] at RTk HLE hle
      generalize (Crc.recs (L.take k)).length = S at *
      have hle' : (S : Int) + 8 + m ≤ n := by omega
      have hlt' : (k : Int) < L.length := by omega
      clear hle hcell0
      go_wp2_with fail
      go_round
      case rel => exact ⟨k + 1, hlt, by go_num, by rw [RTk.out]; first | rfl | (congr 1; omega) | congr 1, hide (by rw [RTk.out]; exact HLE.out)⟩
      case measure => simp [intOf]; omega
    · have hkN : k < L.length → n < (Crc.recs (L.take k)).length + (8 + (L.getD k []).length) := fun h => by
        have : ¬ ((Crc.recs (L.take k)).length + (8 + (L.getD k []).length) ≤ n) := fun h2 => hc ⟨h, h2⟩
        omega
      have SCk := SC k n hk HnN.out HK.out hkN
      obtain ⟨hvb, hbc⟩ := (PT n HnN.out).out
      have hbc' : (n : Int) ≤ bc := by omega
      have LT := hide (show ((Crc.recs L).take n).length ≤ 1000000000 by rw [List.length_take]; have := HnN.out; omega)
      have LT2 := hide (show ((Crc.recs L).take n).length ≤ 1000000 by
        rw [List.length_take]
        have h1 := recs_len_le2 L HS.out
        omega)
      have SN := hide (scan_any _ _ w2 hvb LT2.out)
      obtain ⟨hf1, hf2⟩ := (HF k hk).out
      have HFk := hide hf1
      have hf2' : (k : Int) ≤ c := by omega
      have LK := hide (show (L.take k).length ≤ 1000000 by rw [List.length_take]; have := HS.out.1; omega)
      have HMORE := hide hkN
      clear hbc hvb PT SC hf1 hf2 hkN LT
      generalize (Crc.recs L).take n = l at *
      by_cases hz : n = (Crc.recs (L.take k)).length
      · have e1 : (Crc.scan l).2.1 = (Crc.recs (L.take k)).length := by rw [SCk.out]
        have e2 : (Crc.scan l).2.2 = 0 := by rw [SCk.out]; exact if_pos hz
        have e3 : (Crc.scan l).1 = L.take k := by rw [SCk.out]
        have qz : ((n : Int) == ((Crc.recs (L.take k)).length : Nat)) = true := by simp; omega
        have hSn : ((Crc.recs (L.take k)).length : Int) ≤ n := by have := HK.out; omega
        clear SCk hz
        generalize (Crc.recs (L.take k)).length = S at *
        by_cases hlt : k < L.length
        · obtain ⟨b', o, A, m, C, rfl, hb, hcell0, hr⟩ := (HA k hlt).out
          have hcell := (B2.out.cell (p := ⟨b', o + k, none⟩) hb.out).trans hcell0
          have hmo := HMORE.out hlt
          have hm200 : (m : Int) ≤ 200 := by have := HS.out.at hlt; rw [hr.out.2] at this; omega
          rw [hr.out.2] at hmo
          have hgt : (n : Int) < S + 8 + m := by omega
          have hlt' : (k : Int) < L.length := by omega
          clear hmo hcell0 hc
          go_wp2_with fail
          refine SN.out.mono ?_
          rintro e w3 ⟨v3, rfl, ho3, hb3, hl3⟩
          rw [e1, e2]
          rw [e3] at ho3 hl3
          have R3 := hide (ho3.rd hl3)
          have B3 := hide (B2.out.trans (hb3.mono B2.out.size))
          clear ho3 hb3 hl3 e1 e2 e3
          go_wp2_with fail
          refine (KN _).out.mono ?_
          rintro e w4 ⟨rfl, hb4⟩
          have B4 := hide (B3.out.trans (hb4.mono B3.out.size))
          have S4 := hide (sames_yes v3 _ _ w4 (R3.out.keep hb4) (HFk.out.keep B4.out) LK.out)
          clear hb4
          go_wp2_with fail
          refine S4.out.mono ?_
          rintro e w5 ⟨rfl, hb5⟩
          have B5 := hide (B1.out.trans ((B4.out.trans (hb5.mono B4.out.size)).mono B1.out.size))
          clear hb5
          go_wp2_with fail
          go_ret
          exact ⟨rfl, B5.out⟩
        · have hge : (L.length : Int) ≤ k := by omega
          clear hc
          go_wp2_with fail
          refine SN.out.mono ?_
          rintro e w3 ⟨v3, rfl, ho3, hb3, hl3⟩
          rw [e1, e2]
          rw [e3] at ho3 hl3
          have R3 := hide (ho3.rd hl3)
          have B3 := hide (B2.out.trans (hb3.mono B2.out.size))
          clear ho3 hb3 hl3 e1 e2 e3
          go_wp2_with fail
          refine (KN _).out.mono ?_
          rintro e w4 ⟨rfl, hb4⟩
          have B4 := hide (B3.out.trans (hb4.mono B3.out.size))
          have S4 := hide (sames_yes v3 _ _ w4 (R3.out.keep hb4) (HFk.out.keep B4.out) LK.out)
          clear hb4
          go_wp2_with fail
          refine S4.out.mono ?_
          rintro e w5 ⟨rfl, hb5⟩
          have B5 := hide (B1.out.trans ((B4.out.trans (hb5.mono B4.out.size)).mono B1.out.size))
          clear hb5
          go_wp2_with fail
          go_ret
          exact ⟨rfl, B5.out⟩
      · have e1 : (Crc.scan l).2.1 = (Crc.recs (L.take k)).length := by rw [SCk.out]
        have e2 : (Crc.scan l).2.2 = 19 := by rw [SCk.out]; exact if_neg hz
        have e3 : (Crc.scan l).1 = L.take k := by rw [SCk.out]
        have qz : ((n : Int) == ((Crc.recs (L.take k)).length : Nat)) = false := by simp; omega
        have hSn : ((Crc.recs (L.take k)).length : Int) ≤ n := by have := HK.out; omega
        clear SCk hz
        generalize (Crc.recs (L.take k)).length = S at *
        by_cases hlt : k < L.length
        · obtain ⟨b', o, A, m, C, rfl, hb, hcell0, hr⟩ := (HA k hlt).out
          have hcell := (B2.out.cell (p := ⟨b', o + k, none⟩) hb.out).trans hcell0
          have hmo := HMORE.out hlt
          have hm200 : (m : Int) ≤ 200 := by have := HS.out.at hlt; rw [hr.out.2] at this; omega
          rw [hr.out.2] at hmo
          have hgt : (n : Int) < S + 8 + m := by omega
          have hlt' : (k : Int) < L.length := by omega
          clear hmo hcell0 hc
          go_wp2_with fail
          refine SN.out.mono ?_
          rintro e w3 ⟨v3, rfl, ho3, hb3, hl3⟩
          rw [e1, e2]
          rw [e3] at ho3 hl3
          have R3 := hide (ho3.rd hl3)
          have B3 := hide (B2.out.trans (hb3.mono B2.out.size))
          clear ho3 hb3 hl3 e1 e2 e3
          go_wp2_with fail
          refine (KN _).out.mono ?_
          rintro e w4 ⟨rfl, hb4⟩
          have B4 := hide (B3.out.trans (hb4.mono B3.out.size))
          have S4 := hide (sames_yes v3 _ _ w4 (R3.out.keep hb4) (HFk.out.keep B4.out) LK.out)
          clear hb4
          go_wp2_with fail
          refine S4.out.mono ?_
          rintro e w5 ⟨rfl, hb5⟩
          have B5 := hide (B1.out.trans ((B4.out.trans (hb5.mono B4.out.size)).mono B1.out.size))
          clear hb5
          go_wp2_with fail
          go_ret
          exact ⟨rfl, B5.out⟩
        · have hge : (L.length : Int) ≤ k := by omega
          clear hc
          go_wp2_with fail
          refine SN.out.mono ?_
          rintro e w3 ⟨v3, rfl, ho3, hb3, hl3⟩
          rw [e1, e2]
          rw [e3] at ho3 hl3
          have R3 := hide (ho3.rd hl3)
          have B3 := hide (B2.out.trans (hb3.mono B2.out.size))
          clear ho3 hb3 hl3 e1 e2 e3
          go_wp2_with fail
          refine (KN _).out.mono ?_
          rintro e w4 ⟨rfl, hb4⟩
          have B4 := hide (B3.out.trans (hb4.mono B3.out.size))
          have S4 := hide (sames_yes v3 _ _ w4 (R3.out.keep hb4) (HFk.out.keep B4.out) LK.out)
          clear hb4
          go_wp2_with fail
          refine S4.out.mono ?_
          rintro e w5 ⟨rfl, hb5⟩
          have B5 := hide (B1.out.trans ((B4.out.trans (hb5.mono B4.out.size)).mono B1.out.size))
          clear hb5
          go_wp2_with fail
          go_ret
          exact ⟨rfl, B5.out⟩
end Go.Proofs.Ytgjdaipofekjfaa
