/-
  Contract of amount.Sum at this translation. Conditions: the slice's cells hold its numbers, which fit int64, and it has at most 2^44 elements.
-/
import Derived.Test.YtahfjhmgmpbmkaaDoorAm1
import Derived.Laws.Externs
namespace Go.Proofs.YtahfjhmgmpbmkaaDoor
open Go.RowKit

/-- bits.Add64 over Int. -/
theorem add64 (x y c : Int) (hx : 0 ≤ x) (hx' : x < 18446744073709551616) (hy : 0 ≤ y) (hy' : y < 18446744073709551616) (hc0 : 0 ≤ c) (hc : c ≤ 1) (w : World) : (callFunc 31 #[.int .u64 x, .int .u64 y, .int .u64 c]).run Tryd.prog w =
    .ok (.value (.tuple #[.int .u64 ((x + y + c) % 18446744073709551616), .int .u64 ((x + y + c) / 18446744073709551616)])) w := by
  obtain ⟨x, rfl⟩ := Int.eq_ofNat_of_zero_le hx
  obtain ⟨y, rfl⟩ := Int.eq_ofNat_of_zero_le hy
  obtain ⟨c, rfl⟩ := Int.eq_ofNat_of_zero_le hc0
  rw [run_callFunc_extern Tryd.func31 (by kernel_rfl) (by kernel_rfl) (by kernel_rfl) (e := add64Entry) (by kernel_rfl), run_add64 x y c (by omega) (by omega) (by omega) (by omega)]
  simp only [Result.andThen]


theorem add64_0 (x y : Int) (hx : 0 ≤ x) (hx' : x < 18446744073709551616) (hy : 0 ≤ y) (hy' : y < 18446744073709551616) (w : World) : (callFunc 31 #[.int .u64 x, .int .u64 y, .int .u64 0]).run Tryd.prog w =
    .ok (.value (.tuple #[.int .u64 ((x + y) % 18446744073709551616), .int .u64 ((x + y) / 18446744073709551616)])) w := by
  simpa using add64 x y 0 hx hx' hy hy' (Int.le_refl 0) (by decide) w
theorem u64_wf (x : Int) : 0 ≤ IntKind.u64.wrap x ∧ IntKind.u64.wrap x < 18446744073709551616 := by
  rw [IntKind.wrap_u64]; omega
theorem ret_ii {k k' : IntKind} {a b c d : Int} (h : a = b) (h' : c = d) : Ending.returned (.tuple #[.int k a, .int k' c]) = .returned (.tuple #[.int k b, .int k' d]) := by rw [h, h']
theorem ret_i {k : IntKind} {a b : Int} (h : a = b) : Ending.returned (.int k a) = .returned (.int k b) := by rw [h]
theorem hide {p : Prop} (h : p) : Hid p := h
def tot : List Int → Int
  | [] => 0
  | x :: l => x + tot l
theorem tot_snoc (l : List Int) (x : Int) : tot (l ++ [x]) = tot l + x := by
  induction l with
  | nil => simp [tot]
  | cons y l ih => simp only [List.cons_append, tot, ih]; omega
theorem tot_take (zs : List Int) (k : Nat) (h : k < zs.length) : tot (zs.take (k + 1)) = tot (zs.take k) + zs.getD k 0 := by
  rw [List.take_succ_eq_append_getElem h, tot_snoc, List.getD_eq_getElem?_getD, List.getElem?_eq_getElem h]; rfl

def okA (x : Int) : Prop := -1000000000000000 ≤ x ∧ x ≤ 1000000000000000

theorem sum_step (S x lo hi : Int) (HH : hi = S / 18446744073709551616 % 18446744073709551616) (HL : lo = S % 18446744073709551616) (x1 : -1000000000000000 ≤ x) (x2 : x ≤ 1000000000000000) :
    (hi + IntKind.u64.wrap (x / 9223372036854775808) + (lo + IntKind.u64.wrap x) / 18446744073709551616) % 18446744073709551616 = (S + x) / 18446744073709551616 % 18446744073709551616 ∧
    (lo + IntKind.u64.wrap x) % 18446744073709551616 = (S + x) % 18446744073709551616 := by
  rw [IntKind.wrap_u64, IntKind.wrap_u64]
  refine ⟨?_, by omega⟩
  generalize hs : S / 18446744073709551616 = s at HH
  have e1 : S = 18446744073709551616 * s + lo := by omega
  by_cases hx : x < 0
  · have q : x / 9223372036854775808 = -1 := by omega
    have u : x % 18446744073709551616 = x + 18446744073709551616 := by omega
    rw [q, u]
    have e2 : (S + x) / 18446744073709551616 = s + (lo + (x + 18446744073709551616)) / 18446744073709551616 - 1 := by omega
    rw [e2]; omega
  · have q : x / 9223372036854775808 = 0 := by omega
    have u : x % 18446744073709551616 = x := by omega
    rw [q, u]
    have e2 : (S + x) / 18446744073709551616 = s + (lo + x) / 18446744073709551616 := by omega
    rw [e2]; omega

/-- What Sum returns: an error number, and the sum if there is none. -/
instance : DecidablePred okA := fun x => by unfold okA; infer_instance
def sumE (zs : List Int) : Int := if ∀ x ∈ zs, okA x then (if okA (tot zs) then 0 else 12) else 2
def sumV (zs : List Int) : Int := if sumE zs = 0 then tot zs else 0
theorem sumE_bad (zs : List Int) (x : Int) (hx : x ∈ zs) (h : ¬ okA x) : sumE zs = 2 := by
  unfold sumE; rw [if_neg (fun hh => h (hh x hx))]
theorem sumE_over (zs : List Int) (ha : ∀ x ∈ zs, okA x) (h : ¬ okA (tot zs)) : sumE zs = 12 := by
  unfold sumE; rw [if_pos ha, if_neg h]
theorem sumE_ok (zs : List Int) (ha : ∀ x ∈ zs, okA x) (h : okA (tot zs)) : sumE zs = 0 := by
  unfold sumE; rw [if_pos ha, if_pos h]
theorem sumV_ne (zs : List Int) (h : sumE zs ≠ 0) : sumV zs = 0 := by unfold sumV; rw [if_neg h]
theorem sumV_ok (zs : List Int) (h : sumE zs = 0) : sumV zs = tot zs := by unfold sumV; rw [if_pos h]

/-- The sum of n amounts is at most n times the largest. -/
theorem tot_le (zs : List Int) (h : ∀ x ∈ zs, okA x) : -(1000000000000000 * (zs.length : Int)) ≤ tot zs ∧ tot zs ≤ 1000000000000000 * (zs.length : Int) := by
  induction zs with
  | nil => simp [tot]
  | cons x l ih =>
    have h1 := h x (by simp)
    have h2 := ih (fun y hy => h y (by simp [hy]))
    unfold okA at h1
    simp only [tot, List.length_cons]
    omega
/-- The high word tells whether the low word is the sum. -/
theorem high_fits (S hi lo : Int) (HH : hi = S / 18446744073709551616 % 18446744073709551616) (HL : lo = S % 18446744073709551616) (h1 : -9223372036854775808 ≤ S) (h2 : S < 9223372036854775808) :
    wrap64 lo = S ∧ hi = IntKind.u64.wrap (S / 9223372036854775808) := by
  rw [IntKind.wrap_u64]; unfold wrap64; omega
theorem high_not (S hi lo : Int) (HH : hi = S / 18446744073709551616 % 18446744073709551616) (HL : lo = S % 18446744073709551616) (b1 : -17592186044416000000000000000 ≤ S) (b2 : S ≤ 17592186044416000000000000000) (h : S < -9223372036854775808 ∨ 9223372036854775808 ≤ S) :
    hi ≠ IntKind.u64.wrap (wrap64 lo / 9223372036854775808) := by
  rw [IntKind.wrap_u64]
  generalize hs : S / 18446744073709551616 = s at HH
  have e1 : S = 18446744073709551616 * s + lo := by omega
  have l1 : 0 ≤ lo := by omega
  have l2 : lo < 18446744073709551616 := by omega
  have s1 : -9223372036854775808 ≤ s := by omega
  have s2 : s < 9223372036854775808 := by omega
  clear hs HL b1 b2
  by_cases hl : lo < 9223372036854775808
  · have t : wrap64 lo = lo := by unfold wrap64; omega
    have q : lo / 9223372036854775808 = 0 := by omega
    rw [t, q]; omega
  · have t : wrap64 lo = lo - 18446744073709551616 := by unfold wrap64; omega
    have q : (lo - 18446744073709551616) / 9223372036854775808 = -1 := by omega
    rw [t, q]; omega

/-- amount.Sum. -/
theorem sum_any (b off len cap : Nat) (zs : List Int) (w : World) (hz : zs.length = len) (hlen : len ≤ 17592186044416)
    (hc : ∀ j, j < len → w.cell? ⟨b, off + j, none⟩ = some (.int .i64 (zs.getD j 0))) :
    Calls Tryd.prog 20 #[.slice (some ⟨b, off, none⟩) len cap] w fun e w' => e = .returned (.tuple #[.int .i64 (sumV zs), .int .i64 (sumE zs)]) ∧ w = w' := by
  subst hz
  go_enter Tryd.func20, Tryd.ntmps20
  go_wp2
  go_loop [4, 5, 12] (fun hi lo i => ∃ k : Nat, k ≤ zs.length ∧ i = .int .i64 k ∧ Hid (∀ j, j < k → okA (zs.getD j 0)) ∧ ∃ h l : Int, 0 ≤ h ∧ h < 18446744073709551616 ∧ 0 ≤ l ∧ l < 18446744073709551616 ∧ Hid (h = tot (zs.take k) / 18446744073709551616 % 18446744073709551616) ∧ Hid (l = tot (zs.take k) % 18446744073709551616) ∧ hi = .int .u64 h ∧ lo = .int .u64 l) (fun _ _ i => zs.length - (intOf i).toNat)
  case atStart => exact ⟨0, Nat.zero_le _, rfl, hide (fun _ h => by omega), 0, 0, by omega, by omega, by omega, by omega, hide rfl, hide rfl, rfl, rfl⟩
  case round =>
    obtain ⟨k, hk, rfl, HV, hi, lo, i1, i2, l1, l2, HH, HL, rfl, rfl⟩ := hrel
    by_cases hlt : k < zs.length
    · have hcell := hc k hlt
      obtain ⟨x, hX⟩ : ∃ x, x = zs.getD k 0 := ⟨_, rfl⟩
      rw [← hX] at hcell
      have HX := hide hX
      have HC := hide hc
      clear hX hc
      by_cases hx : okA x
      · obtain ⟨x1, x2⟩ := hx
        have u1 := (u64_wf x).1
        have u2 := (u64_wf x).2
        have v1 := (u64_wf (x / 9223372036854775808)).1
        have v2 := (u64_wf (x / 9223372036854775808)).2
        have c1 : 0 ≤ (lo + IntKind.u64.wrap x) / 18446744073709551616 := by omega
        have c2 : (lo + IntKind.u64.wrap x) / 18446744073709551616 ≤ 1 := by omega
        go_wp2_with fail
        refine (valid_yes _ _ x1 x2).mono ?_
        rintro e w' ⟨rfl, rfl⟩
        go_wp2_with (first | simp only [add64_0 lo _ l1 l2 u1 u2] | simp only [add64 hi _ _ i1 i2 v1 v2 c1 c2])
        go_round
        case rel =>
          have hs := sum_step (tot (zs.take k)) x lo hi HH.out HL.out x1 x2
          have ht := tot_take zs k hlt
          rw [← HX.out] at ht
          rw [← ht] at hs
          exact ⟨k + 1, by omega, by go_num, hide (fun j hj => by
            rcases Nat.lt_or_ge j k with h | h
            · exact HV.out j h
            · obtain rfl : j = k := by omega
              rw [← HX.out]; exact ⟨x1, x2⟩), _, _, by omega, by omega, by omega, by omega, hide hs.1, hide hs.2, rfl, rfl⟩
        case measure => simp [intOf]; omega
      · have hx' : x < -1000000000000000 ∨ 1000000000000000 < x := by unfold okA at hx; omega
        have HN := hide hx
        have c := hide (valid_no x w hx')
        clear hx' hx
        go_wp2_with fail
        refine c.out.mono ?_
        rintro e w' ⟨rfl, rfl⟩
        go_wp2_with fail
        go_ret2
        have hmem : zs.getD k 0 ∈ zs := by rw [List.getD_eq_getElem?_getD, List.getElem?_eq_getElem hlt]; simp
        have hb := sumE_bad zs _ hmem (by rw [← HX.out]; exact HN.out)
        exact ⟨ret_ii (sumV_ne zs (by omega)).symm hb.symm, rfl⟩
    · have hk' : k = zs.length := by omega
      clear hlt
      subst hk'
      rw [List.take_length] at HH HL
      have hall : ∀ x ∈ zs, okA x := fun x hx => by
        obtain ⟨j, hj, rfl⟩ := List.getElem_of_mem hx
        have := HV.out j hj
        rwa [List.getD_eq_getElem?_getD, List.getElem?_eq_getElem hj] at this
      have hb := tot_le zs hall
      by_cases hf : -9223372036854775808 ≤ tot zs ∧ tot zs < 9223372036854775808
      · obtain ⟨e1, e2⟩ := high_fits (tot zs) hi lo HH.out HL.out hf.1 hf.2
        subst e2
        have HB := hide hb
        have HF := hide hf
        have HA := hide hall
        clear hb hf hall
        by_cases ho : okA (tot zs)
        · have c := hide (bounded_yes _ w ho.1 ho.2)
          have HO := hide ho
          clear ho
          go_wp2_with fail
          refine c.out.mono ?_
          rintro e w' ⟨rfl, rfl⟩
          go_wp2_with fail
          go_ret2
          have h0 := sumE_ok zs HA.out HO.out
          exact ⟨ret_ii (sumV_ok zs h0).symm h0.symm, rfl⟩
        · have c := hide (bounded_no (tot zs) w (by unfold okA at ho; omega))
          have HO := hide ho
          clear ho
          go_wp2_with fail
          refine c.out.mono ?_
          rintro e w' ⟨rfl, rfl⟩
          go_wp2_with fail
          go_ret2
          have h0 := sumE_over zs HA.out HO.out
          exact ⟨ret_ii (sumV_ne zs (by omega)).symm h0.symm, rfl⟩
      · have hn := high_not (tot zs) hi lo HH.out HL.out (by omega) (by omega) (by omega)
        have ho : ¬ okA (tot zs) := by unfold okA; omega
        have h0 := hide (sumE_over zs hall ho)
        clear hb hf hall ho
        go_wp2_with fail
        · go_ret2
          exact ⟨ret_ii (sumV_ne zs (by rw [h0.out]; decide)).symm h0.out.symm, rfl⟩
end Go.Proofs.YtahfjhmgmpbmkaaDoor
