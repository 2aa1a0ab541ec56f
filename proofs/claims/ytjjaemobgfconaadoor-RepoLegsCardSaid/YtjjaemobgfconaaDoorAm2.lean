/-
  Small helpers: equal results, hidden facts, amounts. No program.
-/
import Derived.Test.YtjjaemobgfconaaDoorAm1
import Derived.Laws.Externs
namespace Go.Proofs.YtjjaemobgfconaaDoor
open Go.RowKit

theorem u64_wf (x : Int) : 0 ≤ IntKind.u64.wrap x ∧ IntKind.u64.wrap x < 18446744073709551616 := by
  rw [IntKind.wrap_u64]; omega
theorem ret_ii {k k' : IntKind} {a b c d : Int} (h : a = b) (h' : c = d) : Ending.returned (.tuple #[.int k a, .int k' c]) = .returned (.tuple #[.int k b, .int k' d]) := by rw [h, h']
theorem ret_i {k : IntKind} {a b : Int} (h : a = b) : Ending.returned (.int k a) = .returned (.int k b) := by rw [h]
theorem hide {p : Prop} (h : p) : Hid p := h
def tot : List Int → Int
  | [] => 0
  | x :: l => x + tot l
theorem tot_snoc (l : List Int) (x : Int) : tot (l ++ [x]) = tot l + x := by
  induction l with
  | nil => simp [tot]
  | cons y l ih => simp only [List.cons_append, tot, ih]; omega
theorem tot_take (zs : List Int) (k : Nat) (h : k < zs.length) : tot (zs.take (k + 1)) = tot (zs.take k) + zs.getD k 0 := by
  rw [List.take_succ_eq_append_getElem h, tot_snoc, List.getD_eq_getElem?_getD, List.getElem?_eq_getElem h]; rfl

def okA (x : Int) : Prop := -1000000000000000 ≤ x ∧ x ≤ 1000000000000000

instance : DecidablePred okA := fun x => by unfold okA; infer_instance
end Go.Proofs.YtjjaemobgfconaaDoor
