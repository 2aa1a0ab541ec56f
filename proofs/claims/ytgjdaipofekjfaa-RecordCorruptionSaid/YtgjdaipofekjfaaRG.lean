/-
  Contracts of the reference's All and Sames.
-/
import Derived.Test.YtgjdaipofekjfaaRF
namespace Go.Proofs.Ytgjdaipofekjfaa
open Go.RowKit
set_option linter.unusedVariables false
set_option linter.unusedSimpArgs false
set_option linter.unnecessarySimpa false

theorem Sm.at {L : List (List Nat)} (h : Sm L) {k : Nat} (hk : k < L.length) : (L.getD k []).length ≤ 200 := by
  rw [List.getD_eq_getElem?_getD, List.getElem?_eq_getElem hk]
  exact h.2 _ (List.getElem_mem hk)
theorem Sm.recs {L : List (List Nat)} (h : Sm L) {k : Nat} (hk : k ≤ L.length) : (Crc.recs (L.take k)).length ≤ 100000000 := by
  have := recs_len_le L k hk (fun j hj => by have := h.at (k := j) (by omega); omega)
  have := h.1
  omega

set_option maxHeartbeats 4000000 in
set_option maxRecDepth 100000 in
theorem rall_any (v : Value) (L : List (List Nat)) (w : World) (h : RdL w v L) (hs : Sm L) :
    Calls Try.prog 21 #[v] w fun e w' => ∃ v', e = .returned v' ∧ Ow w' w.heap.size v' (Crc.recs L) ∧ Below w.heap.size w w' := by
  obtain ⟨a, c, rfl⟩ := h.form
  have HA := fun k hk => hide (h.at (k := k) hk)
  have HS := hide hs
  have h20 : (L.length : Int) ≤ 20 := by have := hs.1; omega
  have RT := fun k (hk : k < L.length) => hide (recs_take_succ hk)
  have FT := hide (show L.take L.length = L from List.take_length ..)
  clear h hs
  go_enter Try.func21, Try.ntmps21
  go_wp2_with fail
  go_loopw [3, 4] (fun v i wr => ∃ k : Nat, k ≤ L.length ∧ i = .int .i64 k ∧ Hid (Ow wr w.heap.size v (Crc.recs (L.take k))) ∧ Hid (Below w.heap.size w wr)) (fun _ i _ => L.length - (intOf i).toNat)
  case atStart => exact ⟨0, Nat.zero_le _, rfl, hide (Ow.nil _ _), hide (Below.refl _ _)⟩
  case round =>
    obtain ⟨k, hk, rfl, HO, BL⟩ := hrel
    by_cases hlt : k < L.length
    · obtain ⟨b, o, A, m, C, rfl, hb, hc, hr⟩ := (HA k hlt).out
      have hcell := (BL.out.cell (p := ⟨b, o + k, none⟩) hb.out).trans hc
      have HL := hide (HS.out.at hlt)
      have RE := hide (renc_any _ _ wr (hr.out.1.keep BL.out) (by have := HL.out; omega))
      have RL := hide (HS.out.recs hk)
      have RTk := RT k hlt
      have RC := hide (Crc.recd_len (L.getD k []))
      clear hc
      go_wp2_with fail
      refine RE.out.mono ?_
      rintro e w1 ⟨v1, rfl, ho1, hb1⟩
      have O1 := hide ho1.rd
      have B1 := hide (BL.out.trans (hb1.mono BL.out.size))
      have HO1 := hide (HO.out.keep hb1)
      clear ho1 hb1
      go_wp2_with (refine wpList_ap (W := w) B1.out HO1.out O1.out (by rw [RC.out]; have := RL.out; have := HL.out; omega) rfl (.tmp 11) (.tmp 16) rfl rfl rfl ?_; intro v2 w2 HO2 HB2 HG2; rw [← RTk.out] at HO2; clear HG2)
      go_roundw
      case rel => exact ⟨k + 1, hlt, by go_num, HO2, HB2⟩
      case measure => simp [intOf]; omega
    · obtain rfl : k = L.length := by omega
      rw [FT.out] at HO
      go_wp2_with fail
      go_ret
      exact ⟨_, rfl, HO.out, BL.out⟩

set_option maxHeartbeats 4000000 in
set_option maxRecDepth 100000 in
theorem sames_yes (v1 v2 : Value) (L : List (List Nat)) (w : World) (h1 : RdL w v1 L) (h2 : RdL w v2 L) (hL : L.length ≤ 1000000) :
    Calls Try.prog 26 #[v1, v2] w fun e w' => e = .returned (.bool true) ∧ Below w.heap.size w w' := by
  obtain ⟨a1, c1, rfl⟩ := h1.form
  obtain ⟨a2, c2, rfl⟩ := h2.form
  have H1 := fun k hk => hide (h1.at (k := k) hk)
  have H2 := fun k hk => hide (h2.at (k := k) hk)
  have hLi : (L.length : Int) ≤ 1000000 := by omega
  clear h1 h2 hL
  go_enter Try.func26, Try.ntmps26
  go_wp2_with fail
  go_loopw [5] (fun i wr => ∃ k : Nat, k ≤ L.length ∧ i = .int .i64 k ∧ Hid (Below w.heap.size w wr)) (fun i _ => L.length - (intOf i).toNat)
  case atStart => exact ⟨0, Nat.zero_le _, rfl, hide (Below.refl _ _)⟩
  case round =>
    obtain ⟨k, hk, rfl, BL⟩ := hrel
    by_cases hlt : k < L.length
    · obtain ⟨b, o, A, m, C, rfl, hb, hc, hr⟩ := (H1 k hlt).out
      obtain ⟨b', o', A', m', C', rfl, hb', hc', hr'⟩ := (H2 k hlt).out
      have s1 : ∀ x : Sub wr, x.val.cell? ⟨b, o + k, none⟩ = some (.slice A m C) := fun x => ((BL.out.trans (x.below.mono BL.out.size)).cell (p := ⟨b, o + k, none⟩) hb.out).trans hc
      have s2 : ∀ x : Sub wr, x.val.cell? ⟨b', o' + k, none⟩ = some (.slice A' m' C') := fun x => ((BL.out.trans (x.below.mono BL.out.size)).cell (p := ⟨b', o' + k, none⟩) hb'.out).trans hc'
      have SM := fun x : Sub wr => hide (sub_of x ((same_yes (.slice A m C) (.slice A' m' C') _ x.val (hr.out.1.keep (BL.out.trans (x.below.mono BL.out.size))) (hr'.out.1.keep (BL.out.trans (x.below.mono BL.out.size)))).mono fun _ _ ⟨p, q⟩ => ⟨p, q ▸ Below.refl _ _⟩))
      clear H1 H2 hc hc' hr hr' hb hb'
      have hlt' : (k : Int) < L.length := by omega
      go_wp2_with fail
      refine wp_region_sub (w0 := wr) (by kernel_rfl) (by kernel_rfl) (Below.refl _ _).drew ?_
      repeat (first | go_big_quiet_step ((go_at_call 18; with_reducible exact (SM _).out)) | quiet_step ((go_at_call 18; with_reducible exact (SM _).out)))
      refine wpQuiet_nil ?_
      rintro _ ⟨x, rfl⟩
      have BX := hide (BL.out.trans (x.below.mono BL.out.size))
      go_wp2_with fail
      go_roundw
      case rel => exact ⟨k + 1, hlt, by go_num, BX⟩
      case measure => simp [intOf]; omega
    · obtain rfl : k = L.length := by omega
      go_wp2_with fail
      go_ret
      exact ⟨rfl, BL.out⟩
end Go.Proofs.Ytgjdaipofekjfaa
