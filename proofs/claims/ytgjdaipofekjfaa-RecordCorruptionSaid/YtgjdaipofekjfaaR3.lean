/-
  Contract of record.extendAll: the checksum of several parts, one behind the other.
-/
import Derived.Test.YtgjdaipofekjfaaR2
namespace Go.Proofs.Ytgjdaipofekjfaa
open Go.RowKit
set_option linter.unusedVariables false
set_option linter.unusedSimpArgs false
set_option linter.unnecessarySimpa false

/-- The slice value v reads as slices vs that read as the lists L. -/
def RdP (w : World) (v : Value) (vs : List Value) (L : List (List Nat)) : Prop :=
  vs.length = L.length ∧ L.length ≤ 1000000 ∧ (∀ k, k < L.length → RdB w (vs.getD k undef) (L.getD k [])) ∧
  ∃ b off cap, v = .slice (some ⟨b, off, none⟩) L.length cap ∧ L.length ≤ cap ∧ cap ≤ maxLen ∧ b < w.heap.size ∧
    ∀ k, k < L.length → w.cell? ⟨b, off + k, none⟩ = some (vs.getD k undef)

theorem flat_snoc {L : List (List Nat)} {k : Nat} (h : k < L.length) : (L.take (k + 1)).flatten = (L.take k).flatten ++ L.getD k [] := by
  rw [List.take_succ_eq_append_getElem h, List.flatten_append]
  simp [List.getD_eq_getElem?_getD, List.getElem?_eq_getElem h]
theorem take_snocN {l : List Nat} {k : Nat} (h : k < l.length) : l.take (k + 1) = l.take k ++ [l.getD k 0] := by
  rw [List.take_succ_eq_append_getElem h]
  simp [List.getD_eq_getElem?_getD, List.getElem?_eq_getElem h]

theorem getD_lt {l : List Nat} (h : Crc.Bts l) (i : Nat) : l.getD i 0 < 256 := by
  rw [List.getD_eq_getElem?_getD]
  by_cases hi : i < l.length
  · rw [List.getElem?_eq_getElem hi]; exact h _ (List.getElem_mem hi)
  · rw [List.getElem?_eq_none (by omega)]; decide

/-- One byte, as the walk writes it. -/
theorem byte_walk (r c : Nat) (hr : r < 4294967296) (hc : c < 256) :
    bits .xor .u32 ((r : Int) / 256) ((Crc.stps 8 ((r % 256) ^^^ c) : Nat) : Int) = ((Crc.stps 8 (r ^^^ c) : Nat) : Int) := by
  have e1 : (r : Int) / 256 = ((r / 256 : Nat) : Int) := by omega
  have h1 : (r % 256) ^^^ c < 256 := Nat.xor_lt_two_pow (n := 8) (Nat.mod_lt _ (by decide)) hc
  rw [e1, u32_xor_nat _ _ (by omega) (Crc.stps_lt 8 (by omega)), ← Crc.byte_table r c hc]

theorem flat_bts {w : World} {v : Value} {vs : List Value} {L : List (List Nat)} (h : RdP w v vs L) (k : Nat) : Crc.Bts (L.take k).flatten := by
  intro c hc
  obtain ⟨l, hl, hcl⟩ := List.mem_flatten.1 hc
  obtain ⟨i, hi, e⟩ := List.getElem_of_mem (List.mem_of_mem_take hl)
  have := (h.2.2.1 i hi).1
  rw [List.getD_eq_getElem?_getD, List.getElem?_eq_getElem hi] at this
  exact this c (by simpa [e] using hcl)

set_option maxHeartbeats 4000000 in
set_option maxRecDepth 100000 in
theorem extall_any (s : Nat) (v : Value) (vs : List Value) (L : List (List Nat)) (w : World) (hs : s < 4294967296) (h : RdP w v vs L) :
    Calls Try.prog 29 #[.int .u32 s, v] w fun e w' => e = .returned (.int .u32 (Crc.ext s L.flatten : Nat)) ∧ Below w.heap.size w w' := by
  have A := zero61
  have FB := fun k => hide (flat_bts h k)
  have hi : Crc.INV < 2 ^ 32 := by decide
  have x0 : s ^^^ Crc.INV < 4294967296 := Nat.xor_lt_two_pow (n := 32) hs hi
  have e0 : bits .xor .u32 (s : Int) 4294967295 = ((s ^^^ Crc.INV : Nat) : Int) := u32_xor_nat s 4294967295 hs (by decide)
  obtain ⟨hl, hn, hR, b, off, cap, rfl, h1, h2, h3, hc⟩ := h
  unfold maxLen at h2
  have HC := hide hc
  have HR := hide hR
  have HX0 := hide x0
  have HE0 := hide e0
  clear hc hR x0 e0 hl
  go_enter Try.func29, Try.ntmps29
  go_wp2_with (first
    | (go_at_call 36; refine (tab_any _).mono ?_; rintro e w1 ⟨rfl, hb⟩)
    | (refine wpList_store_row rfl 61 (.tmp 5) (.tmp 11) rfl _ (tabK 256) rfl rfl 61 (tabK 0) (heap_alloc_new _ _) (by rw [tabK_size]; kernel_rfl) (by rw [tabK_size, tabK_size]) tab_one ?_))
  have T : Hid (((w1.alloc (Obj.cells (tabK 0) 61)).setRow w1.heap.size (tabK 256)).heap[w1.heap.size]? = some (.cells (tabK 256) 61 (0, 0))) := hide (setRow_heap _ _ _ _ _ _ (heap_alloc_new w1 _))
  have B : Hid (Below w.heap.size w ((w1.alloc (Obj.cells (tabK 0) 61)).setRow w1.heap.size (tabK 256))) := hide ((hb.alloc hb.size (.cells (tabK 0) 61)).trans ⟨rfl, rfl, rfl, by simp, fun i hi => setRow_other _ _ _ _ (by have := hb.size; omega)⟩)
  have Z1 : Hid (w.heap.size ≤ w1.heap.size) := hb.size
  clear hb
  generalize hG : w1.heap.size = G at *
  generalize ((w1.alloc (Obj.cells (tabK 0) 61)).setRow G (tabK 256)) = W at *
  clear hG w1
  go_loop [6, 16] (fun r i => ∃ k : Nat, k ≤ L.length ∧ i = .int .i64 k ∧ r = .int .u32 (Crc.reg (s ^^^ Crc.INV) (L.take k).flatten : Nat)) (fun _ i => L.length - (intOf i).toNat)
  case atStart => exact ⟨0, Nat.zero_le _, rfl, by rw [HE0.out]; rfl⟩
  case round =>
    obtain ⟨k, hk, rfl, rfl⟩ := hrel
    have R0 : Crc.reg (s ^^^ Crc.INV) (L.take k).flatten < 4294967296 := Crc.reg_lt HX0.out (FB k).out
    by_cases hlt : k < L.length
    · have hcell : W.cell? ⟨b, off + k, none⟩ = some (vs.getD k undef) := (B.out.cell (p := ⟨b, off + k, none⟩) h3).trans (HC.out k hlt)
      have hrd := (HR.out k hlt).keep B.out
      have FS := hide (flat_snoc hlt)
      have hBt := hide hrd.1
      have hlen : (L.getD k []).length ≤ 9223372036854775807 := by
        rcases hrd.2 with ⟨_, _, h⟩ | ⟨b', off', cap', hv, g1, g2, g3, gc⟩
        · rw [h]; decide
        · unfold maxLen at g2; omega
      obtain ⟨r0, HR0⟩ : ∃ r0, Hid (r0 = Crc.reg (s ^^^ Crc.INV) (L.take k).flatten) := ⟨_, rfl⟩
      have hr0 : r0 < 4294967296 := by rw [HR0.out]; exact R0
      rw [← HR0.out]
      clear R0
      have EQ : ∃ (a : Option Addr) (n c : Nat), vs.getD k undef = .slice a n c ∧ n = (L.getD k []).length ∧ ∀ q, q < (L.getD k []).length → ∃ b' off', a = some ⟨b', off', none⟩ ∧ W.cell? ⟨b', off' + q, none⟩ = some (.int .u8 (((L.getD k []).getD q 0 : Nat) : Int)) := by
        rcases hrd.2 with ⟨a0, hv, h⟩ | ⟨b', off', cap', hv, g1, g2, g3, gc⟩
        · exact ⟨a0, 0, 0, hv, by rw [h]; rfl, fun q hq => by rw [h] at hq; cases hq⟩
        · exact ⟨_, _, _, hv, rfl, fun q hq => ⟨b', off', rfl, gc q hq⟩⟩
      clear hrd
      generalize L.getD k [] = l at *
      obtain ⟨a, n, c, hv, rfl, hq⟩ := EQ
      rw [hv] at hcell
      have HQ := hide hq
      clear hv hq
      go_wp2_with fail
      go_loop [6, 22] (fun r j => ∃ q : Nat, q ≤ l.length ∧ j = .int .i64 q ∧ r = .int .u32 (Crc.reg r0 (l.take q) : Nat)) (fun _ j => l.length - (intOf j).toNat)
      case atStart => exact ⟨0, Nat.zero_le _, rfl, rfl⟩
      case round =>
        obtain ⟨q, hq, rfl, rfl⟩ := hrel
        have hr1 : Crc.reg r0 (l.take q) < 4294967296 := Crc.reg_lt hr0 (hBt.out.take q)
        by_cases hlq : q < l.length
        · obtain ⟨b', off', rfl, hcq⟩ := HQ.out q hlq
          have SN := hide (take_snocN hlq)
          have SR := hide (Crc.reg_snoc r0 (l.take q) (l.getD q 0))
          have hcb := getD_lt hBt.out q
          generalize l.getD q 0 = x at *
          generalize Crc.reg r0 (l.take q) = r1 at *
          have BW := hide (byte_walk r1 x hr1 hcb)
          have X8 := u8_xor_nat (r1 % 256) x (Nat.mod_lt _ (by decide)) hcb
          have xlt : r1 % 256 ^^^ x < 256 := Nat.xor_lt_two_pow (n := 8) (Nat.mod_lt _ (by decide)) hcb
          have hct : W.cell? ⟨G, r1 % 256 ^^^ x, none⟩ = some (.int .u32 ((Crc.stps 8 (r1 % 256 ^^^ x) : Nat) : Int)) := by
            rw [cell_of_row W _ _ _ _ _ T.out, tabK_get _ _ xlt, if_pos xlt]
          have em : ((r1 : Int) % 256) = ((r1 % 256 : Nat) : Int) := by omega
          rw [← em] at X8
          clear em
          generalize r1 % 256 ^^^ x = y at *
          go_wp2_with fail
          go_round
          case rel => exact ⟨q + 1, hlq, by go_num, by rw [SN.out, SR.out, BW.out]⟩
          case measure => simp [intOf]; omega
        · obtain rfl : q = l.length := by omega
          have FT := hide (show l.take l.length = l from List.take_length ..)
          have RA := hide (Crc.reg_append (s ^^^ Crc.INV) (L.take k).flatten l)
          go_wp2_with fail
          go_round
          case rel => exact ⟨k + 1, hlt, by go_num, by rw [FS.out, RA.out, FT.out, ← HR0.out]⟩
          case measure => simp [intOf]; omega
    · obtain rfl : k = L.length := by omega
      have FT := hide (show L.take L.length = L from List.take_length ..)
      have XE := hide (u32_xor_nat _ 4294967295 R0 (by decide))
      have TB := hide B
      clear B
      go_wp2_with fail
      go_ret
      exact ⟨ret_i (by have := XE.out; rw [FT.out] at this; exact this), TB.out.out⟩
end Go.Proofs.Ytgjdaipofekjfaa
