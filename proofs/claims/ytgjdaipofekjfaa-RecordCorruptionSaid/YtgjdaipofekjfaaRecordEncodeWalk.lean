/-
  The walk of RecordEncode.
-/
import Derived.Test.YtgjdaipofekjfaaRG
namespace Go.Proofs.Ytgjdaipofekjfaa
open Go.RowKit
set_option linter.unusedVariables false
set_option linter.unusedSimpArgs false
set_option linter.unnecessarySimpa false

theorem EaP.yes' {w w' : World} {L : List (List Nat)} {e : Ending} (h : EaP w L e w') (ho : AllOk L = true) : ∃ b, e = .returned (.tuple #[b, .int .i64 0]) ∧ Ow w' w.heap.size b (Crc.recs L) ∧ Below w.heap.size w w' := by
  obtain ⟨b, h1, h2, h3⟩ := h
  rw [if_pos ho] at h1 h2
  exact ⟨b, h1, h2, h3⟩
theorem Sm.ok {L : List (List Nat)} (h : Sm L) : AllOk L = true := by
  unfold AllOk
  rw [List.all_eq_true]
  intro p hp
  have := h.2 p hp
  exact decide_eq_true (by omega)
theorem encl_any (v : Value) (L : List (List Nat)) (w : World) (h : RdL w v L) : Calls Try.prog 20 #[v] w (EaP w L) := by
  rcases h with ⟨rfl, rfl⟩ | ⟨vs, h⟩
  · exact encall_nil w
  · exact encall_any v vs L w h
theorem ok_one {l : List Nat} (h : l.length ≤ 200) : AllOk [l] = true := by simp [AllOk]; omega

set_option maxHeartbeats 4000000 in
set_option maxRecDepth 100000 in
theorem recordEncode_walk (a0 : Option Addr) (len0 cap0 : Nat) (w : World) (w0 : IsRows w a0 len0 cap0) :
    Calls Try.prog 5 #[.slice a0 len0 cap0] w fun e w' => e = .returned (.bool true) ∧ Below w.heap.size w w' := by
  have CU := hide (cut_any a0 len0 cap0 w w0)
  have KN := fun w => hide (known_any w)
  clear w0
  go_enter Try.func5, Try.ntmps5
  go_wp2_with fail
  refine CU.out.mono ?_
  rintro e w1 ⟨v, L, rfl, hs, ho, hb⟩
  have HS := hide hs
  have B1 := hide hb
  have hrd := ho.rd (by have := hs.1; omega)
  have HR := hide hrd
  obtain ⟨a, c, rfl⟩ := hrd.form
  have HA := fun k hk => hide (hrd.at (k := k) hk)
  have h20 : (L.length : Int) ≤ 20 := by have := hs.1; omega
  clear hs ho hb hrd CU
  go_wp2_with fail
  go_loopw [3] (fun i wr => ∃ k : Nat, k ≤ L.length ∧ i = .int .i64 k ∧ Hid (Below w1.heap.size w1 wr)) (fun i _ => L.length - (intOf i).toNat)
  case atStart => exact ⟨0, Nat.zero_le _, rfl, hide (Below.refl _ _)⟩
  case round =>
    obtain ⟨k, hk, rfl, BL⟩ := hrel
    by_cases hlt : k < L.length
    · obtain ⟨b, o, A, m, C, rfl, hb, hc, hr⟩ := (HA k hlt).out
      have hcell := (BL.out.cell (p := ⟨b, o + k, none⟩) hb.out).trans hc
      have HL := hide (HS.out.at hlt)
      have EN := hide (enc_any _ _ wr (hr.out.1.keep BL.out))
      have hlt' : (k : Int) < L.length := by omega
      go_wp2_with fail
      refine EN.out.mono ?_
      intro e w2 he
      obtain ⟨b2, rfl, ho2, hb2⟩ := he.yes' (ok_one HL.out)
      have O2 := hide (show Ow w2 wr.heap.size b2 (Crc.recd (L.getD k [])) by simpa [Crc.recs] using ho2)
      have B2 := hide (BL.out.trans (hb2.mono BL.out.size))
      have hcell2 := (B2.out.cell (p := ⟨b, o + k, none⟩) hb.out).trans hc
      have RE := hide (renc_any _ _ w2 (hr.out.1.keep B2.out) (by have := HL.out; omega))
      clear he ho2 hb2 hcell EN
      go_wp2_with fail
      refine RE.out.mono ?_
      rintro e w3 ⟨v3, rfl, ho3, hb3⟩
      have S3 := hide (same_yes b2 v3 _ w3 (O2.out.rd.keep hb3) ho3.rd)
      have B3 := hide (B2.out.trans (hb3.mono B2.out.size))
      clear ho3 hb3
      go_wp2_with fail
      refine S3.out.mono ?_
      rintro e w4 ⟨rfl, rfl⟩
      go_wp2_with fail
      go_roundw
      case rel => exact ⟨k + 1, hlt, by go_num, B3⟩
      case measure => simp [intOf]; omega
    · have EA := hide (encl_any _ L wr (HR.out.keep BL.out))
      obtain rfl : k = L.length := by omega
      go_wp2_with fail
      refine EA.out.mono ?_
      intro e w5 he
      obtain ⟨b5, rfl, ho5, hb5⟩ := he.yes' HS.out.ok
      have O5 := hide ho5.rd
      have B5 := hide (BL.out.trans (hb5.mono BL.out.size))
      clear he ho5 hb5 EA
      go_wp2_with fail
      refine (KN _).out.mono ?_
      rintro e w6 ⟨rfl, hb6⟩
      have O6 := hide (O5.out.keep hb6)
      have B6 := hide (B5.out.trans (hb6.mono B5.out.size))
      have RA := hide (rall_any _ L w6 (HR.out.keep B6.out) HS.out)
      clear hb6
      go_wp2_with fail
      refine RA.out.mono ?_
      rintro e w7 ⟨v7, rfl, ho7, hb7⟩
      have S7 := hide (same_yes b5 v7 _ w7 (O6.out.keep hb7) ho7.rd)
      have B7 := hide (B6.out.trans (hb7.mono B6.out.size))
      clear ho7 hb7
      go_wp2_with fail
      refine S7.out.mono ?_
      rintro e w8 ⟨rfl, rfl⟩
      go_wp2_with fail
      go_ret
      exact ⟨rfl, B1.out.trans (B7.out.mono B1.out.size)⟩
end Go.Proofs.Ytgjdaipofekjfaa
