/-
  Contract of amount.Sum at this translation. Conditions: the slice's cells hold its numbers, which fit int64, and it has at most 2^44 elements.
-/
import Derived.Test.YtgikafojkcjllaaDoorAm1
import Derived.Laws.Externs
namespace Go.Proofs.YtgikafojkcjllaaDoor
open Go.RowKit

theorem u64_wf (x : Int) : 0 ≤ IntKind.u64.wrap x ∧ IntKind.u64.wrap x < 18446744073709551616 := by
  rw [IntKind.wrap_u64]; omega
theorem ret_ii {k k' : IntKind} {a b c d : Int} (h : a = b) (h' : c = d) : Ending.returned (.tuple #[.int k a, .int k' c]) = .returned (.tuple #[.int k b, .int k' d]) := by rw [h, h']
theorem ret_i {k : IntKind} {a b : Int} (h : a = b) : Ending.returned (.int k a) = .returned (.int k b) := by rw [h]
theorem hide {p : Prop} (h : p) : Hid p := h
def tot : List Int → Int
  | [] => 0
  | x :: l => x + tot l
theorem tot_snoc (l : List Int) (x : Int) : tot (l ++ [x]) = tot l + x := by
  induction l with
  | nil => simp [tot]
  | cons y l ih => simp only [List.cons_append, tot, ih]; omega
theorem tot_take (zs : List Int) (k : Nat) (h : k < zs.length) : tot (zs.take (k + 1)) = tot (zs.take k) + zs.getD k 0 := by
  rw [List.take_succ_eq_append_getElem h, tot_snoc, List.getD_eq_getElem?_getD, List.getElem?_eq_getElem h]; rfl

def okA (x : Int) : Prop := -1000000000000000 ≤ x ∧ x ≤ 1000000000000000

theorem sum_step (S x lo hi : Int) (HH : hi = S / 18446744073709551616 % 18446744073709551616) (HL : lo = S % 18446744073709551616) (x1 : -1000000000000000 ≤ x) (x2 : x ≤ 1000000000000000) :
    (hi + IntKind.u64.wrap (x / 9223372036854775808) + (lo + IntKind.u64.wrap x) / 18446744073709551616) % 18446744073709551616 = (S + x) / 18446744073709551616 % 18446744073709551616 ∧
    (lo + IntKind.u64.wrap x) % 18446744073709551616 = (S + x) % 18446744073709551616 := by
  rw [IntKind.wrap_u64, IntKind.wrap_u64]
  refine ⟨?_, by omega⟩
  generalize hs : S / 18446744073709551616 = s at HH
  have e1 : S = 18446744073709551616 * s + lo := by omega
  by_cases hx : x < 0
  · have q : x / 9223372036854775808 = -1 := by omega
    have u : x % 18446744073709551616 = x + 18446744073709551616 := by omega
    rw [q, u]
    have e2 : (S + x) / 18446744073709551616 = s + (lo + (x + 18446744073709551616)) / 18446744073709551616 - 1 := by omega
    rw [e2]; omega
  · have q : x / 9223372036854775808 = 0 := by omega
    have u : x % 18446744073709551616 = x := by omega
    rw [q, u]
    have e2 : (S + x) / 18446744073709551616 = s + (lo + x) / 18446744073709551616 := by omega
    rw [e2]; omega

/-- What Sum returns: an error number, and the sum if there is none. -/
instance : DecidablePred okA := fun x => by unfold okA; infer_instance
def sumE (zs : List Int) : Int := if ∀ x ∈ zs, okA x then (if okA (tot zs) then 0 else 12) else 2
def sumV (zs : List Int) : Int := if sumE zs = 0 then tot zs else 0
theorem sumE_bad (zs : List Int) (x : Int) (hx : x ∈ zs) (h : ¬ okA x) : sumE zs = 2 := by
  unfold sumE; rw [if_neg (fun hh => h (hh x hx))]
theorem sumE_over (zs : List Int) (ha : ∀ x ∈ zs, okA x) (h : ¬ okA (tot zs)) : sumE zs = 12 := by
  unfold sumE; rw [if_pos ha, if_neg h]
theorem sumE_ok (zs : List Int) (ha : ∀ x ∈ zs, okA x) (h : okA (tot zs)) : sumE zs = 0 := by
  unfold sumE; rw [if_pos ha, if_pos h]
theorem sumV_ne (zs : List Int) (h : sumE zs ≠ 0) : sumV zs = 0 := by unfold sumV; rw [if_neg h]
theorem sumV_ok (zs : List Int) (h : sumE zs = 0) : sumV zs = tot zs := by unfold sumV; rw [if_pos h]

/-- The sum of n amounts is at most n times the largest. -/
theorem tot_le (zs : List Int) (h : ∀ x ∈ zs, okA x) : -(1000000000000000 * (zs.length : Int)) ≤ tot zs ∧ tot zs ≤ 1000000000000000 * (zs.length : Int) := by
  induction zs with
  | nil => simp [tot]
  | cons x l ih =>
    have h1 := h x (by simp)
    have h2 := ih (fun y hy => h y (by simp [hy]))
    unfold okA at h1
    simp only [tot, List.length_cons]
    omega
/-- The high word tells whether the low word is the sum. -/
theorem high_fits (S hi lo : Int) (HH : hi = S / 18446744073709551616 % 18446744073709551616) (HL : lo = S % 18446744073709551616) (h1 : -9223372036854775808 ≤ S) (h2 : S < 9223372036854775808) :
    wrap64 lo = S ∧ hi = IntKind.u64.wrap (S / 9223372036854775808) := by
  rw [IntKind.wrap_u64]; unfold wrap64; omega
theorem high_not (S hi lo : Int) (HH : hi = S / 18446744073709551616 % 18446744073709551616) (HL : lo = S % 18446744073709551616) (b1 : -17592186044416000000000000000 ≤ S) (b2 : S ≤ 17592186044416000000000000000) (h : S < -9223372036854775808 ∨ 9223372036854775808 ≤ S) :
    hi ≠ IntKind.u64.wrap (wrap64 lo / 9223372036854775808) := by
  rw [IntKind.wrap_u64]
  generalize hs : S / 18446744073709551616 = s at HH
  have e1 : S = 18446744073709551616 * s + lo := by omega
  have l1 : 0 ≤ lo := by omega
  have l2 : lo < 18446744073709551616 := by omega
  have s1 : -9223372036854775808 ≤ s := by omega
  have s2 : s < 9223372036854775808 := by omega
  clear hs HL b1 b2
  by_cases hl : lo < 9223372036854775808
  · have t : wrap64 lo = lo := by unfold wrap64; omega
    have q : lo / 9223372036854775808 = 0 := by omega
    rw [t, q]; omega
  · have t : wrap64 lo = lo - 18446744073709551616 := by unfold wrap64; omega
    have q : (lo - 18446744073709551616) / 9223372036854775808 = -1 := by omega
    rw [t, q]; omega

end Go.Proofs.YtgikafojkcjllaaDoor
