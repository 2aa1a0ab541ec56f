/-
  Contract of record.byteTable: the 256 entries of the table of one byte.
-/
import Derived.Test.YtgjdaipofekjfaaR1
import Derived.Laws.BitsAll
namespace Go.Proofs.Ytgjdaipofekjfaa
open Go.RowKit
set_option linter.unusedVariables false
set_option linter.unusedSimpArgs false
set_option linter.unnecessarySimpa false

def tabK (k : Nat) : Array Value := ((List.range 256).map fun i => Value.int .u32 ((if i < k then Crc.stps 8 i else 0 : Nat) : Int)).toArray

theorem tabK_size (k : Nat) : (tabK k).size = 256 := by simp [tabK]
theorem tabK_get (k i : Nat) (h : i < 256) : (tabK k)[i]? = some (.int .u32 ((if i < k then Crc.stps 8 i else 0 : Nat) : Int)) := by
  simp [tabK, h]
theorem tabK_set (k : Nat) (h : k < 256) : (tabK k).setIfInBounds k (.int .u32 ((Crc.stps 8 k : Nat) : Int)) = tabK (k + 1) := by
  apply Array.ext_getElem?
  intro i
  rw [Array.getElem?_setIfInBounds, tabK_size]
  by_cases hi : i < 256
  · rw [tabK_get _ _ hi]
    by_cases e : k = i
    · subst e; simp [hi, h, tabK_get]
    · rw [if_neg e, tabK_get _ _ hi]
      have : (i < k) ↔ (i < k + 1) := by omega
      simp only [this]
  · have e1 : (tabK (k + 1))[i]? = none := by rw [Array.getElem?_eq_none]; rw [tabK_size]; omega
    have e2 : (tabK k)[i]? = none := by rw [Array.getElem?_eq_none]; rw [tabK_size]; omega
    rw [e1]
    by_cases e : k = i
    · omega
    · rw [if_neg e, e2]

theorem info61 : (Try.prog.info? 61).map (fun i => (i.zero, i.size)) = some (some (.agg (tabK 0)), 256) := by kernel_rfl


theorem zero61 (w : World) : (zeroValue 61).run Try.prog w = .ok (.agg (tabK 0)) w := by kernel_rfl

theorem band1 (a : Nat) (ha : a < 4294967296) : bits .and .u32 (a : Int) 1 = ((a % 2 : Nat) : Int) := by
  have h := u32_and_nat a 1 ha (by decide)
  rw [Nat.and_one_is_mod] at h; exact h
/-- One bit, as the walk writes it. -/
theorem stp_walk (r : Nat) (h : r < 4294967296) : bits .xor .u32 ((r : Int) / 2) (2197175160 * bits .and .u32 (r : Int) 1 % 4294967296) = ((Crc.stp r : Nat) : Int) := by
  rw [band1 r h]
  have e1 : (r : Int) / 2 = ((r / 2 : Nat) : Int) := by omega
  have e2 : (2197175160 * ((r % 2 : Nat) : Int) % 4294967296) = ((Crc.POLY * (r % 2) : Nat) : Int) := by unfold Crc.POLY; omega
  rw [e1, e2, u32_xor_nat _ _ (by omega) (by unfold Crc.POLY; omega)]; rfl

theorem tabK_blk {wr : World} {g k : Nat} (hk : k < 256) (h : wr.heap[g]? = some (.cells (tabK k) 61 (0, 0))) :
    (wr.setCell ⟨g, k, none⟩ (.int .u32 ((Crc.stps 8 k : Nat) : Int))).heap[g]? = some (.cells (tabK (k + 1)) 61 (0, 0)) := by
  rw [heap_setCell_same wr g k _ _ _ h, tabK_set k hk]

theorem tab_one : (tabK 256).all (·.oneCell') = true := by
  rw [Array.all_eq_true]
  intro i hi
  have h := tabK_get 256 i (by rw [tabK_size] at hi; exact hi)
  rw [Array.getElem?_eq_getElem hi] at h
  rw [Option.some.inj h]; rfl

set_option maxHeartbeats 4000000 in
set_option maxRecDepth 100000 in
theorem tab_any (w : World) : Calls Try.prog 36 #[] w fun e w' => e = .returned (.agg (tabK 256)) ∧ Below w.heap.size w w' := by
  have A := zero61
  have I1 : Hid (((w.alloc (.cells (tabK 0) 61)).alloc (.cells (tabK 0) 61)).heap[w.heap.size + 1]? = some (.cells (tabK 0) 61 (0, 0))) := heap_alloc2_new w _ _
  have I0 : Hid (((w.alloc (.cells (tabK 0) 61)).alloc (.cells (tabK 0) 61)).heap[w.heap.size]? = some (.cells (tabK 0) 61 (0, 0))) := heap_alloc2_old w _ _
  have IB : Hid (Below w.heap.size w ((w.alloc (.cells (tabK 0) 61)).alloc (.cells (tabK 0) 61))) := ((Below.refl _ _).alloc (Nat.le_refl _) _).alloc (by simp) _
  go_enter Try.func36, Try.ntmps36
  go_wp2_with fail
  go_loopw [5] (fun i wr => ∃ k : Nat, k ≤ 256 ∧ i = .int .i64 k ∧ Hid (wr.heap[w.heap.size + 1]? = some (.cells (tabK k) 61 (0, 0))) ∧ Hid (wr.heap[w.heap.size]? = some (.cells (tabK 0) 61 (0, 0))) ∧ Hid (Below w.heap.size w wr)) (fun i _ => 256 - (intOf i).toNat)
  case atStart => exact ⟨0, Nat.zero_le _, rfl, I1, I0, IB⟩
  case round =>
    obtain ⟨k, hk, rfl, H1, H0, B⟩ := hrel
    have hz := B.out.size
    by_cases hlt : k < 256
    · go_wp2_with fail
      go_loop [3, 10] (fun r j => ∃ q : Nat, q ≤ 8 ∧ j = .int .i64 q ∧ r = .int .u32 (Crc.stps q k : Nat)) (fun _ j => 8 - (intOf j).toNat)
      case atStart => exact ⟨0, Nat.zero_le _, rfl, by show _ = Value.int _ ((k : Nat) : Int); congr 1⟩
      case round =>
        obtain ⟨q, hq, rfl, rfl⟩ := hrel
        have hb : Crc.stps q k < 4294967296 := Crc.stps_lt q (by omega)
        have ST := hide (stp_walk (Crc.stps q k) hb)
        have SS := hide (Crc.stps_succ q k)
        by_cases hq8 : q < 8
        · go_wp2_with fail
          go_round
          case rel => exact ⟨q + 1, by omega, by go_num, by rw [ST.out, SS.out]⟩
          case measure => simp [intOf]; omega
        · obtain rfl : q = 8 := by omega
          have hc : wr.cell? ⟨w.heap.size + 1, k, none⟩ = some (.int .u32 0) := by
            rw [cell_of_row wr _ _ _ _ _ H1.out, tabK_get _ _ hlt]; simp
          have hf := frozen_of_row wr (w.heap.size + 1) k _ _ H1.out
          have N1 := hide (tabK_blk hlt H1.out)
          have N0 := hide ((heap_setCell_other wr ⟨w.heap.size + 1, k, none⟩ w.heap.size (.int .u32 ((Crc.stps 8 k : Nat) : Int)) (by simp)).trans H0.out)
          have NB := hide (B.out.setCell (p := ⟨w.heap.size + 1, k, none⟩) (by simp) (.int .u32 ((Crc.stps 8 k : Nat) : Int)))
          clear ST SS H1 H0 B
          go_wp2_with fail
          go_roundw
          case rel => exact ⟨k + 1, by omega, by go_num, N1, N0, NB⟩
          case measure => simp [intOf]; omega
    · obtain rfl : k = 256 := by omega
      have E1 := H1.out
      have E0 := H0.out
      go_wp2_with (first
        | (refine wpList_load_row rfl 61 (.tmp 1) rfl (w.heap.size + 1) rfl 61 (tabK 256) (0, 0) _ E1 Try.underlying61 rfl (by rw [tabK_size]; kernel_rfl) ?_)
        | (refine wpList_store_row rfl 61 (.tmp 0) (.tmp 24) rfl w.heap.size (tabK 256) rfl rfl 61 (tabK 0) E0 (by rw [tabK_size]; kernel_rfl) (by rw [tabK_size, tabK_size]) tab_one ?_))
      refine bodyPost_ret (v := .agg (tabK 256)) (results_cell_row (p := 0) (ty := 61) rfl _ _ w.heap.size 61 (tabK 256) (0, 0) _ (by simp [Act.put, undef]) (setRow_heap _ _ _ _ _ _ E0) Try.underlying61 rfl (by rw [tabK_size]; kernel_rfl)) rfl ⟨rfl, ?_⟩
      refine B.out.trans ⟨rfl, rfl, rfl, by simp, fun i hi => setRow_other _ _ _ _ (by omega)⟩
end Go.Proofs.Ytgjdaipofekjfaa
