/-
  The walk of RecordCorruption.
-/
import Derived.Test.YtgjdaipofekjfaaRecordTruncationWalk
import Derived.Test.YtgjdaipofekjfaaRecordLimitsWalk
namespace Go.Proofs.Ytgjdaipofekjfaa
open Go.RowKit
set_option linter.unusedVariables false
set_option linter.unusedSimpArgs false
set_option linter.unnecessarySimpa false

set_option maxHeartbeats 8000000 in
set_option maxRecDepth 100000 in
theorem recordCorruption_walk (a0 : Option Addr) (len0 cap0 : Nat) (a1 : Int) (a2 : Int) (a3 : Int) (w : World) (w0 : IsRows w a0 len0 cap0) (w1 : (Lit.int .u8 a1).wf = true) (w2 : (Lit.int .u8 a2).wf = true) (w3 : (Lit.int .u8 a3).wf = true) :
    Calls Try.prog 10 #[.slice a0 len0 cap0, .int .u8 a1, .int .u8 a2, .int .u8 a3] w fun e w' => e = .returned (.bool true) ∧ Below w.heap.size w w' := by
  have CU := hide (cut_any a0 len0 cap0 w w0)
  have KN := fun w => hide (known_any w)
  have wf8 : ∀ x : Int, (Lit.int .u8 x).wf = true → 0 ≤ x ∧ x < 256 := by
    intro x h
    simp [Lit.wf, IntKind.min, IntKind.max, IntKind.signed, IntKind.bits] at h
    omega
  obtain ⟨ba, bb⟩ := wf8 a1 w1
  obtain ⟨bc1, bd1⟩ := wf8 a2 w2
  obtain ⟨be1, bf1⟩ := wf8 a3 w3
  clear w0 w1 w2 w3 wf8
  go_enter Try.func10, Try.ntmps10
  go_wp2_with fail
  refine CU.out.mono ?_
  rintro e w1 ⟨v, L, rfl, hs, ho, hb⟩
  have HS := hide hs
  have B1 := hide hb
  have hrd := ho.rd (by have := hs.1; omega)
  have HR := hide hrd
  have HPL := hide (hrd.pls hs)
  obtain ⟨a, c, rfl⟩ := hrd.form
  have HA := fun k hk => hide (hrd.at (k := k) hk)
  have HF := fun k hk => hide (hrd.first (k := k) hk)
  have h20 : (L.length : Int) ≤ 20 := by have := hs.1; omega
  have EA := hide (encl_any _ L w1 hrd)
  clear hs ho hb hrd CU
  go_wp2_with fail
  refine EA.out.mono ?_
  intro e w2 he
  obtain ⟨b, rfl, ho2, hb2⟩ := he.yes' HS.out.ok
  have O2 := hide ho2.rd
  have B2 := hide hb2
  obtain ⟨bp, bc, hbf⟩ := ho2.form
  subst hbf
  clear he ho2 hb2 EA
  by_cases h0 : L.length = 0
  · have h0' : ((L.length : Int) == 0) = true := beq_iff_eq.2 (by omega)
    clear h0
    go_wp2_with fail
    refine (KN _).out.mono ?_
    rintro e w3 ⟨rfl, hb3⟩
    have B3 := hide (B1.out.trans ((B2.out.trans (hb3.mono B2.out.size)).mono B1.out.size))
    clear hb3
    go_wp2_with fail
    go_ret
    exact ⟨rfl, B3.out⟩
  have h0' : ((L.length : Int) == 0) = false := beq_eq_false_iff_ne.2 (by omega)
  have hpos : 0 < (L.length : Int) := by omega
  obtain ⟨k, hk⟩ : ∃ k : Nat, a1 % (L.length : Int) = (k : Int) := ⟨(a1 % (L.length : Int)).toNat, by have := Int.emod_nonneg a1 (show (L.length : Int) ≠ 0 by omega); omega⟩
  have hkL : k < L.length := by have := Int.emod_lt_of_pos a1 hpos; omega
  have RT := fun k (hk : k < L.length) => hide (show (Crc.recs (L.take (k + 1))).length = (Crc.recs (L.take k)).length + (8 + (L.getD k []).length) by rw [recs_take_succ hk, List.length_append, Crc.recd_len])
  have RL := fun k (hk : k ≤ L.length) => hide (HS.out.recs hk)
  have HK := hide hkL
  have hkLi : (k : Int) < L.length := by omega
  clear h0 hkL
  go_wp2_with fail
  go_loop [12, 13] (fun z i => ∃ q : Nat, q ≤ k ∧ i = .int .i64 q ∧ z = .int .i64 ((Crc.recs (L.take q)).length : Nat)) (fun _ i => k - (intOf i).toNat)
  case atStart => exact ⟨0, Nat.zero_le _, rfl, by simp [Crc.recs]⟩
  case round =>
    obtain ⟨q, hq, rfl, rfl⟩ := hrel
    have hqL : q ≤ L.length := by have := HK.out; omega
    have HKR := RL q hqL
    have hS : ((Crc.recs (L.take q)).length : Int) ≤ 100000000 := by have := HKR.out; omega
    by_cases hlt : q < k
    · have hlt2 : q < L.length := by have := HK.out; omega
      obtain ⟨b', o, A, m, C, rfl, hb, hcell0, hr⟩ := (HA q hlt2).out
      have hcell := (B2.out.cell (p := ⟨b', o + q, none⟩) hb.out).trans hcell0
      have RTk := RT q hlt2
      have hm200 : (m : Int) ≤ 200 := by have := HS.out.at hlt2; rw [hr.out.2] at this; omega
      rw [hr.out.2] at RTk
      generalize (Crc.recs (L.take q)).length = S at *
      have hlt' : (q : Int) < k := by omega
      have hlt2' : (q : Int) < L.length := by omega
      clear hcell0 hlt2 hqL
      go_wp2_with fail
      go_round
      case rel => exact ⟨q + 1, hlt, by go_num, by rw [RTk.out]; first | rfl | (congr 1; omega) | congr 1⟩
      case measure => simp [intOf]; omega
    · obtain rfl : q = k := by omega
      obtain ⟨b', o, A, m, C, rfl, hb, hcell0, hr⟩ := (HA q HK.out).out
      have hcell := (B2.out.cell (p := ⟨b', o + q, none⟩) hb.out).trans hcell0
      have hm200 : (m : Int) ≤ 200 := by have := HS.out.at HK.out; rw [hr.out.2] at this; omega
      obtain ⟨j, hj⟩ : ∃ j : Nat, a2 % (4 + (m : Int)) = (j : Int) := ⟨(a2 % (4 + (m : Int))).toNat, by have := Int.emod_nonneg a2 (show (4 + (m : Int)) ≠ 0 by omega); omega⟩
      have hjm : j < 4 + m := by have := Int.emod_lt_of_pos a2 (show 0 < 4 + (m : Int) by omega); omega
      obtain ⟨d, hd⟩ : ∃ d : Nat, 1 + a3 % 255 = (d : Int) := ⟨(1 + a3 % 255).toNat, by omega⟩
      have hd1 : 0 < d := by omega
      have hd2 : d < 256 := by omega
      have SC := hide (Crc.scan_turned HPL.out HK.out (j := j) (d := d) (by rw [hr.out.2]; exact hjm) hd1 hd2)
      have HSP := hide (show (Crc.recs (L.take q)).length + (8 + m) ≤ (Crc.recs L).length by
        rw [Crc.recs_split HK.out, List.length_append, List.length_append, Crc.recd_len, hr.out.2]; omega)
      have HR5 := hide (recs_len_le2 L HS.out)
      obtain ⟨hf1, hf2⟩ := (HF q (Nat.le_of_lt HK.out)).out
      have HFk := hide hf1
      have hf2' : (q : Int) ≤ c := by omega
      have LK := hide (show (L.take q).length ≤ 1000000 by rw [List.length_take]; have := HS.out.1; omega)
      have HMJ := hide hjm
      have HD := hide (And.intro hd1 hd2)
      have hji : (j : Int) < 4 + m := by omega
      clear hf1 hf2 hjm hd1 hd2 RT RL HKR hS hcell0 hlt hqL hq HA HF
      generalize hSS : (Crc.recs (L.take q)).length = S at *
      have HSS := hide hSS
      have hS5 : (S : Int) + 8 + m ≤ 5000 := by have := HSP.out; have := HR5.out; omega
      have hNb : ((Crc.recs L).length : Int) ≤ 5000 := by have := HR5.out; omega
      have hSN : (S : Int) + 8 + m ≤ (Crc.recs L).length := by have := HSP.out; omega
      generalize hl : Crc.recs L = l at *
      have HLL := hide hl
      clear hSS hl
      have E2 := hide (Ow.empty w2 w2.heap.size (Nat.le_refl _))
      have D2 := hide (one_blk w2 (.cells #[] 5))
      obtain ⟨N, hN⟩ : ∃ N : Nat, N = l.length := ⟨_, rfl⟩
      have O2' := hide (show RdB w2 (.slice bp N bc) l from hN ▸ O2.out)
      rw [← hN] at hNb hSN ⊢
      have HN := hide hN
      clear hN
      go_wp2_with (at_builtin; refine wpList_ap (W := w2) D2.out E2.out (O2'.out.keep D2.out) (by have := HR5.out; simp; omega) rfl (.tmp 79) (.tmp 80) rfl rfl rfl ?_; intro v3 w3 HO3 HB3 HG3; rw [List.nil_append] at HO3; clear HG3)
      obtain ⟨ca, cc, hcf⟩ := HO3.out.form
      rw [← HN.out] at hcf
      subst hcf
      have hix0 : S + 4 + j < N := by have := HMJ.out; omega
      obtain ⟨ix, hixe⟩ : ∃ ix : Nat, ix = S + 4 + j := ⟨_, rfl⟩
      have hix : ix < N := by omega
      have SC1 := SC.out
      rw [← Nat.add_assoc, ← hixe] at SC1
      have hixI : (S : Int) + 4 + j = (ix : Int) := by omega
      obtain ⟨g, rfl, P1, hcl, hfr, P2⟩ := HO3.out.at (k := ix) hix
      have hcb := getD_lt HO3.out.1 (ix)
      have SC3 := hide SC1
      clear SC1
      generalize l.getD (ix) 0 = x at *
      have X8 : bits .xor .u8 (x : Int) (1 + a3 % 255) = ((x ^^^ d : Nat) : Int) := by rw [hd]; exact u8_xor_nat x d hcb HD.out.2
      have hxd : x ^^^ d < 256 := Nat.xor_lt_two_pow (n := 8) hcb HD.out.2
      have P3 := P2.out (x ^^^ d) hxd
      have O4 := hide P3.1
      have B4 := hide (HB3.out.setCell (p := ⟨g, ix, none⟩) P1.out (.int .u8 ((x ^^^ d : Nat) : Int)))
      have L4 := hide (show (l.set (ix) (x ^^^ d)).length ≤ 1000000 by rw [List.length_set]; have := HR5.out; omega)
      have SN := hide (scan_any _ _ _ O4.out.rd L4.out)
      generalize l.set (ix) (x ^^^ d) = l' at *
      generalize x ^^^ d = y at *
      have hixi : (ix : Int) < N := by omega
      clear SC hixe hix0 P2 P3 hcb hxd hd
      rw [hixI]
      clear hixI
      go_wp2_with fail
      go_simp
      go_wp2_with fail
      refine SN.out.mono ?_
      rintro e w5 ⟨v5, rfl, ho5, hb5, hl5⟩
      have e1 : (Crc.scan l').2.1 = S := by rw [SC3.out]
      have e2 : (Crc.scan l').2.2 = 18 := by rw [SC3.out]
      have e3 : (Crc.scan l').1 = L.take q := by rw [SC3.out]
      rw [e1, e2]
      rw [e3] at ho5 hl5
      have R5 := hide (ho5.rd hl5)
      have B5 := hide ((B2.out.trans (B4.out.mono B2.out.size)).trans (hb5.mono (B2.out.trans (B4.out.mono B2.out.size)).size))
      clear ho5 hb5 hl5 e1 e2 e3
      go_wp2_with fail
      refine (KN _).out.mono ?_
      rintro e w6 ⟨rfl, hb6⟩
      have B6 := hide (B5.out.trans (hb6.mono B5.out.size))
      have S6 := hide (sames_yes v5 _ _ w6 (R5.out.keep hb6) (HFk.out.keep B6.out) LK.out)
      clear hb6
      go_wp2_with fail
      refine S6.out.mono ?_
      rintro e w7 ⟨rfl, hb7⟩
      have B7 := hide (B1.out.trans ((B6.out.trans (hb7.mono B6.out.size)).mono B1.out.size))
      clear hb7
      go_wp2_with fail
      go_ret
      exact ⟨rfl, B7.out⟩
end Go.Proofs.Ytgjdaipofekjfaa
