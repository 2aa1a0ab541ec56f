/-
  A region that draws its order, by an invariant: each operation is looked at once, in any state in which all that must come ahead of it has been carried out. It speaks of no program.
-/
import Derived.Test.YtgikafojkcjllaaDoorAm3
import Derived.BigRegion
namespace Go.Proofs.YtgikafojkcjllaaDoor
open Go Go.RowKit
set_option linter.unusedVariables false

/-- Every operation that must come ahead of i has been carried out. -/
def Before (ops : Array Oper) (f : Nat → Bool) (i : Nat) : Prop := ∀ o, ops[i]? = some o → ∀ e ∈ o.after, Region.binds .any e = true → f e.on = true
def upd (f : Nat → Bool) (i : Nat) : Nat → Bool := fun j => if j = i then true else f j
/-- What must come ahead of an operation stands ahead of it in the text. -/
def downB (ops : Array Oper) : Bool := (List.range ops.size).all fun i => ((ops[i]?).map (·.after.all fun e => !Region.binds .any e || decide (e.on < i))).getD true
/-- Whether j must come ahead of i. -/
def depB (ops : Array Oper) (i j : Nat) : Bool := ((ops[i]?).map (·.after.any fun e => Region.binds .any e && (e.on == j))).getD false

theorem Before.dep {ops : Array Oper} {f : Nat → Bool} {i : Nat} (h : Before ops f i) (j : Nat) (hd : depB ops i j = true) : f j = true := by
  unfold depB at hd
  cases ho : ops[i]? with
  | none => rw [ho] at hd; simp at hd
  | some o =>
    rw [ho] at hd
    simp only [Option.map_some, Option.getD_some, Array.any_eq_true] at hd
    obtain ⟨k, hk, he⟩ := hd
    simp only [Bool.and_eq_true, beq_iff_eq] at he
    have := h o ho _ (Array.getElem_mem hk) he.1
    rwa [he.2] at this

theorem Oper.wp_norm {P : Program} {o : Oper} {a : Act} {w : World} {K K' : Act → World → Prop} {Q : Exit → Act → World → Prop}
    (h : o.wp P a w K (fun e a w => e = .normal ∧ K' a w)) : o.wp P a w K Q := by
  have no : ¬ LetsOut (fun e a w => e = Exit.normal ∧ K' a w) := by rintro ⟨a, w, h, _⟩; cases h
  unfold Oper.wp at *
  generalize (execOp a.eval o).run P w = r at *
  cases r with
  | ok n w' =>
    cases n <;> simp only [Oper.upon] at h ⊢ <;>
      first
        | exact h
        | exact Calls.mono h (fun e w'' he => by cases e <;> first | exact he | exact absurd he no | exact absurd he.1 (by simp))
        | exact Rows.mono h (fun _ _ he => he)
  | halt x w' => cases x <;> simp only [Oper.upon] at h ⊢ <;> first | exact h | exact absurd h no | exact absurd h.1 (by simp)

theorem wpOp_list {P : Program} {ops : Array Oper} {Q : Exit → Act → World → Prop} {i : Nat} {o : Oper} {K : Act → World → Prop} {a : Act} {w : World} (ho : ops[i]? = some o)
    (h : wpList P ops (fun e a w => e = .normal ∧ K a w) [o] a w) : wpOp P ops Q i K a w := by
  have no : ¬ LetsOut (fun e a w => e = Exit.normal ∧ K a w) := by rintro ⟨a, w, h, _⟩; cases h
  unfold wpOp
  simp only [ho]
  unfold wpList at h
  split
  · rename_i hw
    rw [if_pos hw] at h
    rcases h with h | ⟨_, h⟩
    · refine .inl (Oper.wp_norm (K' := K) (Oper.wp_mono (fun a w h => ?_) h))
      simp only [wpList] at h
      exact h.2
    · exact absurd h no
  · rename_i hw
    rw [if_neg hw] at h
    simp only [wpList] at h
    exact h.2

/-- The same with what is to hold behind a name. -/
theorem wpOp_list' {P : Program} {ops : Array Oper} {Q : Exit → Act → World → Prop} {i : Nat} {o : Oper} {J : Act → World → Prop} {a : Act} {w : World} (ho : ops[i]? = some o)
    (h : ∀ K : Act → World → Prop, Hid (∀ a w, J a w → K a w) → wpList P ops (fun e a w => e = .normal ∧ K a w) [o] a w) : wpOp P ops Q i J a w :=
  wpOp_list ho (h J (hide fun _ _ h => h))

theorem count_set : ∀ (l : List Bool) (i : Nat), l[i]? = some false → (l.set i true).count false + 1 = l.count false
  | [], i, h => by simp at h
  | b :: l, 0, h => by
    simp at h; subst h; simp
  | b :: l, i + 1, h => by
    simp only [List.getElem?_cons_succ] at h
    have := count_set l i h
    simp only [List.set_cons_succ, List.count_cons]
    omega

theorem wpAny_inv {P : Program} {ops : Array Oper} {Q : Exit → Act → World → Prop} {I : (Nat → Bool) → Act → World → Prop} (hd : downB ops = true)
    (step : ∀ i, i < ops.size → ∀ f a w, f i = false → Before ops f i → I f a w → wpOp P ops Q i (I (upd f i)) a w)
    (fin : ∀ f a w, (∀ j, j < ops.size → f j = true) → I f a w → Q .normal a w) :
    ∀ (n : Nat) (s : Array Bool) (a : Act) (w : World), s.size = ops.size → s.toList.count false = n → I (fun j => s.getD j false) a w → wpAny P .any ops Q n s a w := by
  intro n
  induction n with
  | zero =>
    intro s a w hs hc hI
    have all : ∀ j, j < ops.size → s.getD j false = true := by
      intro j hj
      have hm := List.count_eq_zero.1 hc
      cases hb : s.getD j false with
      | true => rfl
      | false =>
        exfalso
        apply hm
        have hj' : j < s.size := by omega
        have : s[j] = false := by simpa [Array.getD, hj'] using hb
        rw [← this]
        exact Array.getElem_mem_toList hj'
    refine ⟨?_, fin _ a w all hI⟩
    apply List.eq_nil_iff_forall_not_mem.2
    intro j hj
    obtain ⟨h0, o, ho, _⟩ := mem_ready.1 hj
    have hlt : j < ops.size := (Array.getElem?_eq_some_iff.1 ho).1
    have := all j hlt
    have hj' : j < s.size := by omega
    simp [Array.getD, hj'] at h0 this
    rw [h0] at this; cases this
  | succ n ih =>
    intro s a w hs hc hI
    refine ⟨fun hr => ?_, fun i hi => ?_⟩
    · have all : ∀ j, j < ops.size → s.getD j false = true := by
        intro j
        induction j using Nat.strongRecOn with
        | ind j jh =>
          intro hj
          cases hb : s.getD j false with
          | true => rfl
          | false =>
            exfalso
            have hj' : j < s.size := by omega
            have : j ∈ Region.ready .any ops s := by
              refine mem_ready.2 ⟨by simpa [Array.getD, hj'] using hb, ops[j], by simp [hj], fun e he hbd => ?_⟩
              have hdn := List.all_eq_true.1 hd j (by simpa using hj)
              simp only [hj, Array.getElem?_eq_getElem, Option.map_some, Option.getD_some, Array.all_eq_true_iff_forall_mem, Bool.or_eq_true, Bool.not_eq_true', decide_eq_true_eq] at hdn
              have lt := (hdn e he).resolve_left (by simp [hbd])
              exact jh e.on lt (by omega)
            rw [hr] at this; cases this
      exact fin _ a w all hI
    · obtain ⟨h0, o, ho, hdep⟩ := mem_ready.1 hi
      have hlt : i < ops.size := (Array.getElem?_eq_some_iff.1 ho).1
      have hi' : i < s.size := by omega
      have hsi : s[i] = false := by simpa [Array.getD, hi'] using h0
      refine wpOp_mono (fun a' w' h => ih (s.setIfInBounds i true) a' w' (by simpa using hs) ?_ ?_) (step i hlt _ a w (by simpa [Array.getD, hi'] using hsi) (fun o' ho' e he hb => ?_) hI)
      · have := count_set s.toList i (by simp [hi', hsi])
        simp only [Array.toList_setIfInBounds]
        omega
      · have : (fun j => (s.setIfInBounds i true).getD j false) = upd (fun j => s.getD j false) i := by
          funext j
          unfold upd
          by_cases hji : j = i
          · subst hji; simp [Array.getD, hi']
          · rw [if_neg hji]; simp only [Array.getD_eq_getD_getElem?]; rw [Array.getElem?_setIfInBounds_ne (by omega)]
        rw [this]; exact h
      · rw [ho] at ho'; cases ho'
        exact hdep e he hb

/-- A region that draws its order, by an invariant of what has been carried out. -/
theorem wp_region_inv {P : Program} {id : Nat} {Q : Exit → Act → World → Prop} {a : Act} {w : World} {l : List Oper} (I : (Nat → Bool) → Act → World → Prop) (hm : P.follows .mixedOrders = true) (hd : downB l.toArray = true)
    (h0 : I (fun _ => false) a w.drew)
    (step : ∀ i, i < l.length → ∀ f a w, f i = false → Before l.toArray f i → I f a w → wpOp P l.toArray Q i (I (upd f i)) a w)
    (fin : ∀ f a w, (∀ j, j < l.length → f j = true) → I f a w → Q .normal a w) : (Code.region id l.toArray true).wp P Q a w := by
  refine wp_region_any hm (wpAny_inv (I := I) hd (by simpa using step) (by simpa using fin) _ _ a w.drew (by simp) ?_ ?_)
  · simp
  · have : (fun j => (Array.replicate l.toArray.size false).getD j false) = fun _ => false := by
      funext j
      simp only [Array.getD_eq_getD_getElem?, Array.getElem?_replicate]
      split <;> rfl
    rw [this]; exact h0
end Go.Proofs.YtgikafojkcjllaaDoor
