/-
  The walk of the statement AmountSumOrder: the result of amount.Sum does not depend on the order of its arguments.
-/
import Derived.Test.YtahfjhmgmpbmkaaDoorAmountSumWalk
namespace Go.Proofs.YtahfjhmgmpbmkaaDoor
open Go.RowKit
set_option linter.unusedVariables false

theorem tot_append (a b : List Int) : tot (a ++ b) = tot a + tot b := by
  induction a with
  | nil => simp [tot]
  | cons x l ih => simp only [List.cons_append, tot, ih]; omega
theorem tot_perm {a b : List Int} (h : a.Perm b) : tot a = tot b := by
  induction h with
  | nil => rfl
  | cons x _ ih => simp only [tot, ih]
  | swap x y l => simp only [tot]; omega
  | trans _ _ h1 h2 => exact h1.trans h2
theorem sumE_perm {a b : List Int} (h : a.Perm b) : sumE a = sumE b := by
  have hm : (∀ x ∈ a, okA x) ↔ (∀ x ∈ b, okA x) := ⟨fun h1 x hx => h1 x (h.mem_iff.2 hx), fun h1 x hx => h1 x (h.mem_iff.1 hx)⟩
  unfold sumE
  rw [tot_perm h]
  by_cases h1 : ∀ x ∈ a, okA x
  · rw [if_pos h1, if_pos (hm.1 h1)]
  · rw [if_neg h1, if_neg (fun h2 => h1 (hm.2 h2))]
theorem sumV_perm {a b : List Int} (h : a.Perm b) : sumV a = sumV b := by
  unfold sumV; rw [sumE_perm h, tot_perm h]

/-- The place that the statement takes as its number i. -/
def idx (n t i : Nat) : Nat := (n - 1 - i + t) % n
theorem idx_lt (n t i : Nat) (h : 0 < n) : idx n t i < n := Nat.mod_lt _ h
/-- The first k of the numbers in their new order. -/
def gath (zs : List Int) (n t k : Nat) : List Int := (List.range k).map fun i => zs.getD (idx n t i) 0
theorem gath_snoc (zs : List Int) (n t k : Nat) : gath zs n t (k + 1) = gath zs n t k ++ [zs.getD (idx n t k) 0] := by
  unfold gath; rw [List.range_succ, List.map_append]; rfl
theorem gath_len (zs : List Int) (n t k : Nat) : (gath zs n t k).length = k := by unfold gath; simp

theorem idx_succ (n t i : Nat) (h : i + 1 < n) : idx n (t + 1) (i + 1) = idx n t i := by
  unfold idx
  rw [show n - 1 - (i + 1) + (t + 1) = n - 1 - i + t by omega]
theorem idx_wrap (n t : Nat) (h : 0 < n) : idx n (t + 1) 0 = idx n t (n - 1) := by
  unfold idx
  rw [show n - 1 - 0 + (t + 1) = (n - 1 - (n - 1) + t) + n by omega, Nat.add_mod_right]

theorem gath_turn (zs : List Int) (n t : Nat) (h : 0 < n) : (gath zs n (t + 1) n).Perm (gath zs n t n) := by
  obtain ⟨m, rfl⟩ : ∃ m, n = m + 1 := ⟨n - 1, by omega⟩
  have e1 : gath zs (m + 1) (t + 1) (m + 1) = zs.getD (idx (m + 1) (t + 1) 0) 0 :: (List.range m).map fun i => zs.getD (idx (m + 1) (t + 1) (i + 1)) 0 := by
    unfold gath
    rw [List.range_succ_eq_map]
    simp [Function.comp_def]
  have e2 : gath zs (m + 1) t (m + 1) = gath zs (m + 1) t m ++ [zs.getD (idx (m + 1) t m) 0] := gath_snoc _ _ _ _
  have e3 : ((List.range m).map fun i => zs.getD (idx (m + 1) (t + 1) (i + 1)) 0) = gath zs (m + 1) t m := by
    unfold gath
    refine List.map_congr_left fun i hi => ?_
    rw [idx_succ _ _ _ (by have := List.mem_range.1 hi; omega)]
  rw [e1, e2, e3, idx_wrap _ _ h]
  exact (List.perm_append_singleton _ _).symm

theorem gath_zero (zs : List Int) (h : 0 < zs.length) : gath zs zs.length 0 zs.length = zs.reverse := by
  unfold gath
  refine List.ext_getElem (by simp) fun i h1 h2 => ?_
  rw [List.length_map, List.length_range] at h1
  rw [List.getElem_map, List.getElem_range, List.getElem_reverse]
  have e : idx zs.length 0 i = zs.length - 1 - i := by unfold idx; rw [Nat.add_zero]; exact Nat.mod_eq_of_lt (by omega)
  rw [e, List.getD_eq_getElem?_getD, List.getElem?_eq_getElem (by omega)]
  rfl

theorem gath_perm (zs : List Int) (t : Nat) (h : 0 < zs.length) : (gath zs zs.length t zs.length).Perm zs := by
  induction t with
  | zero => rw [gath_zero zs h]; exact List.reverse_perm zs
  | succ t ih => exact (gath_turn zs _ t h).trans ih

theorem block_lt {w : World} {a : Addr} {v : Value} (h : w.cell? a = some v) : a.block < w.heap.size := by
  unfold World.cell? at h
  rcases Nat.lt_or_ge a.block w.heap.size with h' | h'
  · exact h'
  · rw [Array.getElem?_eq_none h'] at h
    cases h

theorem info2 : (Tryd.prog.info? 2).map (fun i => (i.zero, i.size, i.bytes)) = some (some (.int .i64 0), 1, 8) := by kernel_rfl

/-- amount.Sum over a slice that the call owns. -/
theorem sum_owned {base : Nat} {v : Value} {n : Nat} {zs : List Int} {w : World} (h : w.ownsRow base 2 1 v n (zs.map (Value.int .i64))) (hn : zs.length = n) (hle : n ≤ 17592186044416) :
    Calls Tryd.prog 20 #[v] w fun e w' => e = .returned (.tuple #[.int .i64 (sumV zs), .int .i64 (sumE zs)]) ∧ w = w' := by
  obtain ⟨hl, h⟩ := h
  rcases h with ⟨rfl, rfl⟩ | ⟨g, cap, cur, rfl, hg, hh, hnc, hcm, hcs, hx⟩
  · have : zs = [] := List.eq_nil_of_length_eq_zero hn
    subst this
    exact sum_nil none 0 w
  · refine sum_any g 0 n cap zs w hn hle fun j hj => ?_
    have ho : w.ownsRow base 2 1 (.slice (some ⟨g, 0, none⟩) n cap) n (zs.map (Value.int .i64)) := ⟨hl, Or.inr ⟨g, cap, cur, rfl, hg, hh, hnc, hcm, hcs, hx⟩⟩
    have hc := ho.cellAt j (by omega)
    rw [Nat.zero_add, hc, List.getElem?_map, List.getElem?_eq_getElem (by omega), List.getD_eq_getElem?_getD, List.getElem?_eq_getElem (by omega)]
    rfl

set_option maxRecDepth 100000 in
set_option maxHeartbeats 1000000 in
theorem amountSumOrder_walk (a0 : Option Addr) (len0 cap0 : Nat) (z0 : List Int) (a1 : Int) (w : World) (w0 : IsRow .i64 w a0 len0 cap0 z0) (w1 : (Lit.int .u8 a1).wf = true) :
    Calls Tryd.prog 5 #[.slice a0 len0 cap0, .int .u8 a1] w fun e w' => e = .returned (.bool true) ∧ Below w.heap.size w w' := by
  have kn := fun w => hide (known_any w)
  have hb : 0 ≤ a1 ∧ a1 ≤ 255 := by simp [Lit.wf] at w1; simp [IntKind.min, IntKind.max, IntKind.signed, IntKind.bits] at w1; omega
  obtain ⟨t, rfl⟩ := Int.eq_ofNat_of_zero_le hb.1
  have ht : t ≤ 255 := by omega
  have em : min (0 : Int) 100 = 0 := rfl
  obtain ⟨i0, hi, hz0, hz1, hz2⟩ := info_parts info2
  clear w1 hb
  rcases w0 with ⟨rfl, rfl, rfl, rfl⟩ | ⟨x, rfl, hl, hm, hz, hcell, _⟩
  · have s1 := fun w => hide (sum_nil none 0 w)
    go_enter Tryd.func5, Tryd.ntmps5
    go_wp2_with fail
    go_loopw [5, 6] (fun v i wr => v = .slice none 0 0 ∧ i = .int .i64 0 ∧ wr = w) (fun _ _ _ => 0)
    case atStart => exact ⟨rfl, rfl, rfl⟩
    case round =>
      obtain ⟨rfl, rfl, rfl⟩ := hrel
      go_wp2_with fail
      refine (s1 _).out.mono ?_
      rintro e w' ⟨rfl, rfl⟩
      go_wp2_with fail
      refine (s1 _).out.mono ?_
      rintro e w' ⟨rfl, rfl⟩
      go_wp2_with fail
      refine (kn _).out.mono ?_
      rintro e w1 ⟨rfl, hb1⟩
      have HB1 := hide hb1
      clear hb1
      go_wp2_with fail
      go_ret
      exact ⟨rfl, HB1.out⟩
  · by_cases h0 : len0 = 0
    · subst h0
      have s1 := fun w => hide (sum_nil (some x) cap0 w)
      have s2 := fun w => hide (sum_nil none 0 w)
      clear hcell hz hm
      go_enter Tryd.func5, Tryd.ntmps5
      go_wp2_with fail
      go_loopw [5, 6] (fun v i wr => v = .slice none 0 0 ∧ i = .int .i64 0 ∧ wr = w) (fun _ _ _ => 0)
      case atStart => exact ⟨rfl, rfl, rfl⟩
      case round =>
        obtain ⟨rfl, rfl, rfl⟩ := hrel
        go_wp2_with fail
        refine (s1 _).out.mono ?_
        rintro e w' ⟨rfl, rfl⟩
        go_wp2_with fail
        refine (s2 _).out.mono ?_
        rintro e w' ⟨rfl, rfl⟩
        go_wp2_with fail
        refine (kn _).out.mono ?_
        rintro e w1 ⟨rfl, hb1⟩
        have HB1 := hide hb1
        clear hb1
        go_wp2_with fail
        go_ret
        exact ⟨rfl, HB1.out⟩
    · obtain ⟨n, hn⟩ : ∃ n, n = min len0 100 := ⟨_, rfl⟩
      have en : min (len0 : Int) 100 = (n : Int) := by omega
      obtain ⟨b, off, rfl, hc⟩ := row_first (n := n) hz (by omega) (by omega) hcell
      have hlen : (z0.take n).length = n := by simp; omega
      have hbl : b < w.heap.size := block_lt (hc 0 (by omega))
      obtain ⟨zs, hzs⟩ : ∃ zs, zs = z0.take n := ⟨_, rfl⟩
      rw [← hzs] at hc hlen
      have hn1 : n ≤ cap0 := by omega
      have hn2 : 1 ≤ n := by omega
      have hn3 : n ≤ 100 := by omega
      have HC := hide hc
      have HL := hide hlen
      clear hcell hz hzs h0 em hn hc hlen
      go_enter Tryd.func5, Tryd.ntmps5
      go_wp2_with fail
      go_loopw [5, 6] (fun v i wr => ∃ k : Nat, k ≤ n ∧ i = .int .i64 k ∧ wr.ownsRow w.heap.size 2 1 v k ((gath zs n t k).map (Value.int .i64)) ∧ Hid (Below w.heap.size w wr)) (fun _ i _ => n - (intOf i).toNat)
      case atStart => exact ⟨0, Nat.zero_le _, rfl, World.ownsRow_nil _ _ _ _, hide (Below.refl _ _)⟩
      case round =>
        obtain ⟨k, hk, rfl, hown, HB⟩ := hrel
        by_cases hlt : k < n
        · have eix : ((n : Int) - 1 - (k : Int) + (t : Int)) % (n : Int) = ((idx n t k : Nat) : Int) := by
            unfold idx
            have e : ((n : Int) - 1 - (k : Int) + (t : Int)) = ((n - 1 - k + t : Nat) : Int) := by omega
            rw [e]; exact (Int.natCast_emod _ _).symm
          have hix := idx_lt n t k (by omega)
          have hcell : wr.cell? ⟨b, off + idx n t k, none⟩ = some (.int .i64 (zs.getD (idx n t k) 0)) := (HB.out.cell hbl).trans (HC.out _ hix)
          obtain ⟨x, hX⟩ : ∃ x, x = zs.getD (idx n t k) 0 := ⟨_, rfl⟩
          rw [← hX] at hcell
          have HX := hide hX
          clear hX
          go_wp2_with (at_builtin; refine wpList_append_own _ rfl _ _ 31 rfl w.heap.size 2 i0 (.int .i64 0) 1 8 Tryd.underlying31 hi hz0 hz1 hz2 rfl (by decide) _ _ _ rfl (hown.alloc _) ⟨wr.heap.size, 0, none⟩ 1 1 [.int .i64 x] rfl rfl ?c1 ?c2 ?c3 ?c4 ?c5 ?_)
          case c1 =>
            intro j u hj
            match j, hj with
            | 0, hj => simp at hj; subst hj; simp [Addr.add]
          case c2 => intro u hu; simp at hu; subst hu; rfl
          case c3 => unfold maxLen; omega
          case c4 => omega
          case c5 => have := HB.out.size; simp; omega
          intro v' w1 hown' hgrow _
          have hown2 : w1.ownsRow w.heap.size 2 1 v' (k + 1) ((gath zs n t (k + 1)).map (Value.int .i64)) := by
            rw [gath_snoc, List.map_append]
            have e : [Value.int .i64 x] = List.map (Value.int .i64) [zs.getD (idx n t k) 0] := by rw [← HX.out]; rfl
            rw [← e]; exact hown'
          have hb1 : Below w.heap.size w w1 := (HB.out.alloc HB.out.size _).grown hgrow (by have := HB.out.size; simp; omega) (fun g hg => by
            obtain ⟨_, ho⟩ := hown
            rcases ho with ⟨rfl, _⟩ | ⟨g', _, _, rfl, hg', _⟩
            · cases hg
            · simp [Value.ownBlock] at hg; omega)
          have HB1 := hide hb1
          clear hown' hgrow hown hb1 hcell eix
          go_wp2_with fail
          go_roundw
          case rel => exact ⟨k + 1, by omega, by go_num, hown2, HB1⟩
          case measure => simp [intOf]; omega
        · obtain rfl : k = n := by omega
          have hp := gath_perm zs t (by rw [HL.out]; omega)
          rw [HL.out] at hp
          have hsum := fun (W : World) (v : Value) (h : W.ownsRow w.heap.size 2 1 v k ((gath zs k t k).map (Value.int .i64))) => hide (sum_owned h (gath_len _ _ _ _) (by omega))
          simp only [sumV_perm hp, sumE_perm hp] at hsum
          have hc1 : ∀ j, j < k → wr.cell? ⟨b, off + j, none⟩ = some (.int .i64 (zs.getD j 0)) := fun j hj => (HB.out.cell hbl).trans (HC.out j hj)
          have s1 := hide (sum_any b off k cap0 zs wr HL.out (by omega) hc1)
          have s2 := hsum wr _ hown
          clear hsum hc1 hown hp
          go_wp2_with fail
          refine s1.out.mono ?_
          rintro e w' ⟨rfl, rfl⟩
          go_wp2_with fail
          refine s2.out.mono ?_
          rintro e w' ⟨rfl, rfl⟩
          go_wp2_with fail
          refine (kn _).out.mono ?_
          rintro e w1 ⟨rfl, hb1⟩
          have HB1 := hide (HB.out.trans (hb1.mono HB.out.size))
          clear hb1
          go_wp2_with fail
          go_ret
          exact ⟨rfl, HB1.out⟩
end Go.Proofs.YtahfjhmgmpbmkaaDoor
