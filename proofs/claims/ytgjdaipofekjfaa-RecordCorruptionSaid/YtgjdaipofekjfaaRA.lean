/-
  Contract of record.EncodeAll.
-/
import Derived.Test.YtgjdaipofekjfaaR9
namespace Go.Proofs.Ytgjdaipofekjfaa
open Go.RowKit
set_option linter.unusedVariables false
set_option linter.unusedSimpArgs false
set_option linter.unnecessarySimpa false

def AllOk (L : List (List Nat)) : Bool := L.all fun p => decide (p.length ≤ 1048576)
theorem recs_take_succ {L : List (List Nat)} {k : Nat} (h : k < L.length) : Crc.recs (L.take (k + 1)) = Crc.recs (L.take k) ++ Crc.recd (L.getD k []) := by
  rw [List.take_succ_eq_append_getElem h, Crc.recs_snoc]
  simp [List.getD_eq_getElem?_getD, List.getElem?_eq_getElem h]
theorem recs_len_le (L : List (List Nat)) : ∀ k, k ≤ L.length → (∀ j, j < k → (L.getD j []).length ≤ 1048576) → (Crc.recs (L.take k)).length ≤ k * 1048584
  | 0, _, _ => by simp [Crc.recs]
  | k + 1, h, hj => by
    rw [recs_take_succ h, List.length_append, Crc.recd_len]
    have := recs_len_le L k (by omega) (fun j hj' => hj j (by omega))
    have := hj k (by omega)
    omega
theorem allOk_of {L : List (List Nat)} (h : ∀ j, j < L.length → (L.getD j []).length ≤ 1048576) : AllOk L = true := by
  unfold AllOk
  rw [List.all_eq_true]
  intro p hp
  obtain ⟨i, hi, rfl⟩ := List.getElem_of_mem hp
  have := h i hi
  rw [List.getD_eq_getElem?_getD, List.getElem?_eq_getElem hi] at this
  exact decide_eq_true this
theorem allOk_no {L : List (List Nat)} {j : Nat} (h : j < L.length) (hb : 1048576 < (L.getD j []).length) : AllOk L = false := by
  unfold AllOk
  rw [← Bool.not_eq_true, List.all_eq_true]
  intro hc
  have := hc L[j] (List.getElem_mem h)
  rw [List.getD_eq_getElem?_getD, List.getElem?_eq_getElem h] at hb
  have := of_decide_eq_true this
  simp at hb
  omega

/-- What EncodeAll answers. -/
def EaP (w : World) (L : List (List Nat)) (e : Ending) (w' : World) : Prop :=
  ∃ b, e = .returned (.tuple #[b, .int .i64 (if AllOk L then 0 else 5)]) ∧ Ow w' w.heap.size b (if AllOk L then Crc.recs L else []) ∧ Below w.heap.size w w'
theorem eaP_yes {w w' : World} {L : List (List Nat)} {b : Value} (h : AllOk L = true) (ho : Ow w' w.heap.size b (Crc.recs L)) (hb : Below w.heap.size w w') : EaP w L (.returned (.tuple #[b, .int .i64 0])) w' :=
  ⟨b, by rw [if_pos h], by rw [if_pos h]; exact ho, hb⟩
theorem eaP_no {w w' : World} {L : List (List Nat)} (h : AllOk L = false) (hb : Below w.heap.size w w') : EaP w L (.returned (.tuple #[.slice none 0 0, .int .i64 5])) w' :=
  ⟨_, by rw [if_neg (by rw [h]; decide)], by rw [if_neg (by rw [h]; decide)]; exact Ow.nil _ _, hb⟩

set_option maxHeartbeats 4000000 in
set_option maxRecDepth 100000 in
theorem encall_nil (w : World) : Calls Try.prog 20 #[.slice none 0 0] w (EaP w []) := by
  go_enter Try.func20, Try.ntmps20
  go_wp2_with fail
  go_loopw [4, 10] (fun v i wr => v = .slice none 0 0 ∧ i = .int .i64 0 ∧ wr = w) (fun _ _ _ => 0)
  case atStart => exact ⟨rfl, rfl, rfl⟩
  case round =>
    obtain ⟨rfl, rfl, rfl⟩ := hrel
    go_wp2_with fail
    go_ret2
    exact eaP_yes rfl (Ow.nil _ _) (Below.refl _ _)

set_option maxHeartbeats 8000000 in
set_option maxRecDepth 100000 in
theorem encall_any (v : Value) (vs : List Value) (L : List (List Nat)) (w : World) (h : RdP w v vs L) :
    Calls Try.prog 20 #[v] w (EaP w L) := by
  obtain ⟨hl, hn, hR, b, off, cap, rfl, h1, h2, h3, hc⟩ := h
  unfold maxLen at h2
  have HC := hide hc
  have HR := hide hR
  have RL := fun k hk hj => hide (recs_len_le L k hk hj)
  have RT := fun k (hk : k < L.length) => hide (recs_take_succ hk)
  have L4 := fun n => hide (Crc.le4_len n)
  clear hc hR hl
  go_enter Try.func20, Try.ntmps20
  go_wp2_with fail
  go_loopw [4, 10] (fun v i wr => ∃ k : Nat, k ≤ L.length ∧ i = .int .i64 k ∧ Hid (Ow wr w.heap.size v (Crc.recs (L.take k))) ∧ Hid (Below w.heap.size w wr) ∧ Hid (∀ j, j < k → (L.getD j []).length ≤ 1048576)) (fun _ i _ => L.length - (intOf i).toNat)
  case atStart => exact ⟨0, Nat.zero_le _, rfl, hide (by simpa [Crc.recs] using Ow.nil _ _), hide (Below.refl _ _), hide (fun j hj => absurd hj (Nat.not_lt_zero _))⟩
  case round =>
    obtain ⟨k, hk, rfl, HO, B, HJ⟩ := hrel
    by_cases hlt : k < L.length
    · have hcell : wr.cell? ⟨b, off + k, none⟩ = some (vs.getD k undef) := (B.out.cell (p := ⟨b, off + k, none⟩) h3).trans (HC.out k hlt)
      have hrd0 := HR.out k hlt
      have hrd := hide hrd0
      obtain ⟨pa, pc, hv⟩ := hrd0.form
      have cl : Crc.crc (Crc.le4 (L.getD k []).length ++ L.getD k []) < 4294967296 := Crc.ext_lt (by decide) ((Crc.le4_bts _).append hrd0.1)
      have HV := hide hv
      rw [hv] at hcell hrd
      have RTk := RT k hlt
      have RLk := RL k hk HJ.out
      have JN := hide (fun (h : 1048576 < (L.getD k []).length) => allOk_no hlt h)
      have JY := fun (h : (L.getD k []).length ≤ 1048576) => hide (show ∀ j, j < k + 1 → (L.getD j []).length ≤ 1048576 from fun j hj => by
        by_cases e : j = k
        · subst e; exact h
        · exact HJ.out j (by omega))
      clear hrd0 hv HC HR RL RT
      generalize L.getD k [] = l at *
      by_cases hbig : 1048576 < l.length
      · have E := hide (JN.out hbig)
        clear JN JY cl
        obtain ⟨m, hm⟩ : ∃ m : Int, ((l.length : Nat) : Int) = m := ⟨_, rfl⟩
        have hm' : 1048576 < m := by omega
        generalize l.length = n at *
        clear hbig
        go_wp2_with fail
        go_ret2
        exact eaP_no E.out B.out
      · have HY := JY (by omega)
        have WA := fun w => hide (field_any l.length w (by omega))
        have RDE := hide (show Crc.recd l = (Crc.le4 l.length ++ Crc.le4 (Crc.crc (Crc.le4 l.length ++ l))) ++ l by unfold Crc.recd; rw [List.append_assoc])
        have WB := fun w => hide (field_any (Crc.crc (Crc.le4 l.length ++ l)) w cl)
        obtain ⟨m, hm⟩ : ∃ m : Int, ((l.length : Nat) : Int) = m := ⟨_, rfl⟩
        have hm' : m ≤ 1048576 := by omega
        have hm0 : 0 ≤ m := by omega
        rw [hm] at WA
        have HL := hide (show l.length ≤ 1048576 by omega)
        generalize hln : l.length = n at *
        have HN := hide hln
        have EX := fun v w' x (h : RdP w' v [x, .slice pa n pc] [Crc.le4 n, l]) => hide (extall_any 0 v _ _ w' (by decide) h)
        rw [show Crc.ext 0 [Crc.le4 n, l].flatten = Crc.crc (Crc.le4 n ++ l) by simp [Crc.crc]] at EX
        generalize Crc.crc (Crc.le4 n ++ l) = X at *
        have AC := hide (show (Crc.recs (L.take k)).length ≤ 1048584000000 by have := RLk.out; omega)
        have RV := hide (show Crc.recs (L.take (k + 1)) = ((Crc.recs (L.take k) ++ Crc.le4 n) ++ Crc.le4 X) ++ l by rw [RTk.out, RDE.out]; simp [List.append_assoc])
        generalize Crc.recs (L.take k) = A at *
        clear hbig JN JY hln cl RDE RTk RLk
        go_wp2_with fail
        refine (WA _).out.mono ?_
        rintro e w1 ⟨rfl, rfl⟩
        have O1 := hide (word_own n wr wr.heap.size (Nat.le_refl _))
        have HO1 := hide (HO.out.keep (one_blk wr (.cells (cB (Crc.le4 n)).toArray 5)))
        have B1 := hide (B.out.trans ((one_blk wr (.cells (cB (Crc.le4 n)).toArray 5)).mono B.out.size))
        go_wp2_with (refine wpList_ap (W := w) B1.out HO1.out O1.out.rd (by rw [(L4 n).out]; have := AC.out; omega) rfl (.tmp 21) (.tmp 22) rfl rfl rfl ?_; intro v2 w2 HO2 HB2 HG2; have O2 := hide (O1.out.other HG2.out (ne_own HO.out 4 4)).rd; clear HG2)
        have RP := hide (rdp_two O2.out (hrd.out.keep HB2.out))
        have B3 := hide (HB2.out.trans ((one_blk w2 (.cells #[.slice (some ⟨wr.heap.size, 0, none⟩) 4 4, .slice pa n pc] 22)).mono HB2.out.size))
        have HO3 := hide (HO2.out.keep (one_blk w2 (.cells #[.slice (some ⟨wr.heap.size, 0, none⟩) 4 4, .slice pa n pc] 22)))
        refine (EX _ _ _ RP.out).out.mono ?_
        rintro e w4 ⟨rfl, hb4⟩
        have B4 := hide (B3.out.trans (hb4.mono B3.out.size))
        have HO4 := hide (HO3.out.keep hb4)
        clear hb4 EX RP O2
        go_wp2_with fail
        refine (WB _).out.mono ?_
        rintro e w5 ⟨rfl, rfl⟩
        have O5 := hide (word_own X w4 w4.heap.size (Nat.le_refl _)).rd
        have HO5 := hide (HO4.out.keep (one_blk w4 (.cells (cB (Crc.le4 X)).toArray 5)))
        have B5 := hide (B4.out.trans ((one_blk w4 (.cells (cB (Crc.le4 X)).toArray 5)).mono B4.out.size))
        go_wp2_with (first
          | (refine wpList_ap (W := w) B5.out HO5.out O5.out (by rw [List.length_append, (L4 n).out, (L4 X).out]; have := AC.out; omega) rfl (.tmp 24) (.tmp 29) rfl rfl rfl ?_; intro v6 w6 HO6 HB6 HG6; clear HG6)
          | (refine wpList_ap (W := w) HB6.out HO6.out (hrd.out.keep HB6.out) (by rw [List.length_append, List.length_append, (L4 n).out, (L4 X).out, HN.out]; have := AC.out; have := HL.out; omega) rfl (.tmp 31) (.tmp 32) rfl rfl rfl ?_; intro v7 w7 HO7 HB7 HG7; clear HG7))
        rw [← RV.out] at HO7
        go_roundw
        case rel => exact ⟨k + 1, hlt, by go_num, HO7, HB7, HY⟩
        case measure => simp [intOf]; omega
    · obtain rfl : k = L.length := by omega
      have E := hide (allOk_of HJ.out)
      have FT := hide (show L.take L.length = L from List.take_length ..)
      rw [FT.out] at HO
      clear hlt
      go_wp2_with fail
      go_ret2
      exact eaP_yes E.out HO.out B.out
end Go.Proofs.Ytgjdaipofekjfaa
