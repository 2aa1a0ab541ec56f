/-
  Structs of any depth by value: each cell's reading off the whole reading. It speaks of no program.
-/
import Derived.WalkKit
import Derived.ProofKit
import Derived.OpenShut
import Derived.ChangeArms
namespace Go.Proofs.YtjjaemobgfconaaDoor
open Go.ChangeShapes Go.WideShapes Go.ChangeAt Go.RowKit
set_option linter.unusedVariables false

/-- The field in which cell k lies. -/
def fieldAt (P : Program) (fs : Array Field) (k : Nat) : Option Field := fs.toList.find? fun f => decide (f.offset ≤ k) && decide (k < f.offset + P.cellsOf f.type)
/-- The type of the cell k of a value of type t. -/
def leafAt (P : Program) : Nat → TypeId → Nat → Option TypeId
  | 0, _, _ => none
  | n + 1, t, k =>
    match P.underlying t with
    | some (.struct fs) => (fieldAt P fs k).bind fun f => leafAt P n f.type (k - f.offset)
    | some (.array m e) => if k / P.cellsOf e < m ∧ 0 < P.cellsOf e then leafAt P n e (k % P.cellsOf e) else none
    | _ => if k = 0 then some t else none
/-- What is known of one cell. -/
def CellOk (P : Program) (t : TypeId) (v : Value) : Prop :=
  (∀ k, P.underlying t = some (.int k) → ∃ n, v = .int k n ∧ (Lit.int k n).wf = true) ∧ (P.underlying t = some .bool → ∃ b, v = .bool b) ∧ (P.underlying t = some .string → ∃ s, v = .string s ∧ s.size ≤ maxLen)

theorem getD_drop_take (cs : List Value) (o c k : Nat) (h1 : o ≤ k) (h2 : k < o + c) : ((cs.drop o).take c)[k - o]? = cs[k]? := by
  rw [List.getElem?_take, if_pos (by omega), List.getElem?_drop]
  congr 1; omega

variable {H : Type} {enc : TypeId × Value → H} {P : Program} {w : World} {base : Nat} {spare : Nat → Bool} {held : Bool}
theorem leaf_ok : ∀ (n : Nat) (t : TypeId) (k : Nat) (te : TypeId) (fuel : Nat) (cs : List Value) (x : DataW H × List MemPlace), leafAt P n t k = some te → DataW.trod enc P w base spare held fuel t cs = some x → ∀ v, cs[k]? = some v → CellOk P te v
  | 0, _, _, _, _, _, _, h, _, _, _ => by simp [leafAt] at h
  | n + 1, t, k, te, fuel, cs, x, h, hd, v, hv => by
    unfold leafAt at h
    split at h
    · rename_i fs hu
      obtain ⟨xs, m, _, _, _, hlen, hf⟩ := DataW.trod_struct hu hd
      cases hq : fieldAt P fs k with
      | none => rw [hq] at h; simp at h
      | some f =>
        rw [hq] at h
        simp only [Option.bind_some] at h
        unfold fieldAt at hq
        have hp := List.find?_some hq
        simp only [Bool.and_eq_true, decide_eq_true_eq] at hp
        have hm := List.mem_of_find?_eq_some hq
        obtain ⟨i, hi, hfi⟩ := List.getElem_of_mem hm
        have hfi' : fs[i]? = some f := by
          rw [Array.getElem?_eq_some_iff]
          exact ⟨by simpa using hi, by simpa using hfi⟩
        have hr := hf i f hfi'
        have hxi : xs[i]? = some (xs[i]'(by rw [hlen]; simpa using hi)) := List.getElem?_eq_getElem _
        rw [hxi] at hr
        exact leaf_ok n f.type (k - f.offset) te m _ _ h hr v (by rw [getD_drop_take cs _ _ _ hp.1 hp.2]; exact hv)
    · rename_i m e hu
      obtain ⟨xs, q, _, _, _, hlen, hf⟩ := DataW.trod_array hu hd
      split at h
      · rename_i hc
        have hr := hf _ hc.1
        have hxi : xs[k / P.cellsOf e]? = some (xs[k / P.cellsOf e]'(by rw [hlen]; exact hc.1)) := List.getElem?_eq_getElem _
        rw [hxi] at hr
        have e1 : k - (k / P.cellsOf e * P.cellsOf e) = k % P.cellsOf e := by
          have := Nat.div_add_mod k (P.cellsOf e)
          rw [Nat.mul_comm] at this
          omega
        refine leaf_ok n e (k % P.cellsOf e) te q _ _ h hr v ?_
        rw [← e1, getD_drop_take cs _ _ _ (Nat.div_mul_le_self _ _) (by
          have := Nat.div_add_mod k (P.cellsOf e)
          have := Nat.mod_lt k hc.2
          rw [Nat.mul_comm] at *
          omega)]
        exact hv
      · cases h
    · split at h
      · rename_i hk
        subst hk
        obtain rfl := Option.some.inj h
        refine ⟨fun k hu => ?_, fun hu => ?_, fun hu => ?_⟩
        · obtain ⟨a, rfl, _, wa⟩ := DataW.trod_int hu hd
          simp at hv; exact ⟨a, hv.symm, wa⟩
        · obtain ⟨a, rfl, _⟩ := DataW.trod_bool hu hd
          simp at hv; exact ⟨a, hv.symm⟩
        · obtain ⟨a, rfl, _, wa⟩ := DataW.trod_string hu hd
          simp at hv; exact ⟨a, hv.symm, wa⟩
      · cases h

theorem leaf_of {t : TypeId} {cs : Array Value} {d : DataW H} {ps : List MemPlace} (hd : DataW.Trod enc P w base spare held t (.agg cs) d ps) (n k : Nat) (te : TypeId) (h : leafAt P n t k = some te) (v : Value) (hv : cs.toList[k]? = some v) : CellOk P te v := by
  obtain ⟨fuel, hf⟩ := hd
  exact leaf_ok n t k te fuel _ _ h hf v (by simpa [Value.cells] using hv)
theorem okWide_array {t : TypeId} {n : Nat} {e : TypeId} {r : Reach} {b : Nat} {v : Value} (ht : P.underlying t = some (.array n e)) (h : Value.okWide P w r b t v) : ∃ cs, v = .agg cs ∧ cs.size = P.cellsOf t := by
  simp only [Value.okWide, ht] at h
  obtain ⟨cs, h1, h2, _⟩ := h
  exact ⟨cs, h1, h2⟩
theorem len_succ {l : List Value} {n : Nat} (h : l.length = n + 1) : ∃ a t, l = a :: t ∧ t.length = n := by
  cases l with
  | nil => cases h
  | cons a t => exact ⟨a, t, rfl, by simpa using h⟩
theorem len_zero {l : List Value} (h : l.length = 0) : l = [] := by
  cases l with
  | nil => rfl
  | cons a t => cases h
end Go.Proofs.YtjjaemobgfconaaDoor
