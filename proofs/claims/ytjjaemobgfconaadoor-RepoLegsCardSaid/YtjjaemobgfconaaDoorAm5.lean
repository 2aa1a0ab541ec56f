/-
  Contracts of amount.MulDiv and amount.MulRem at this translation, over a hypothesis on bits.Div64 at the words that they divide.
-/
import Derived.Test.YtjjaemobgfconaaDoorAm4
namespace Go.Proofs.YtjjaemobgfconaaDoor
open Go.RowKit

/-- The arguments of a product and quotient are accepted. -/
def okArgs (x num den : Int) : Prop := okA x ∧ okA num ∧ 1 ≤ den ∧ den ≤ 1000000000000000
instance (x num den : Int) : Decidable (okArgs x num den) := by unfold okArgs; infer_instance
/-- The exact product's rounded quotient. -/
def mdQ (x num den mode : Int) : Int := rnd (negB x num) (absP x num / den) (absP x num % den) den mode
def mdE (x num den mode : Int) : Int := if mode < 0 ∨ 3 < mode then 11 else if okArgs x num den then (if okA (mdQ x num den mode) then 0 else 12) else 2
def mdV (x num den mode : Int) : Int := if mdE x num den mode = 0 then mdQ x num den mode else 0

theorem rnd_ge (neg : Bool) (size rest den mode : Int) (h : 1000000000000000 < size) : ¬ okA (rnd neg size rest den mode) := by
  unfold rnd okA; cases neg <;> simp <;> split <;> omega
theorem mdE_mode (x num den mode : Int) (h : mode < 0 ∨ 3 < mode) : mdE x num den mode = 11 := by unfold mdE; rw [if_pos h]
theorem mdE_args (x num den mode : Int) (m1 : 0 ≤ mode) (m2 : mode ≤ 3) (h : ¬ okArgs x num den) : mdE x num den mode = 2 := by
  unfold mdE; rw [if_neg (by omega), if_neg h]
theorem mdE_over (x num den mode : Int) (m1 : 0 ≤ mode) (m2 : mode ≤ 3) (h : okArgs x num den) (hq : ¬ okA (mdQ x num den mode)) : mdE x num den mode = 12 := by
  unfold mdE; rw [if_neg (by omega), if_pos h, if_neg hq]
theorem mdE_ok (x num den mode : Int) (m1 : 0 ≤ mode) (m2 : mode ≤ 3) (h : okArgs x num den) (hq : okA (mdQ x num den mode)) : mdE x num den mode = 0 := by
  unfold mdE; rw [if_neg (by omega), if_pos h, if_pos hq]
theorem mdV_ne (x num den mode : Int) (h : mdE x num den mode ≠ 0) : mdV x num den mode = 0 := by unfold mdV; rw [if_neg h]
theorem mdV_ok (x num den mode : Int) (h : mdE x num den mode = 0) : mdV x num den mode = mdQ x num den mode := by unfold mdV; rw [if_pos h]

/-- What is asked of bits.Div64 for a product and a divisor. -/
def DivFor (x num den : Int) : Prop := absP x num / 18446744073709551616 < den → DivC (absP x num / 18446744073709551616) (absP x num % 18446744073709551616) den

theorem bcell {W w1 : World} (hb : Below W.heap.size W w1) : (∀ b o, b < W.heap.size → w1.cell? ⟨b, o, none⟩ = W.cell? ⟨b, o, none⟩) ∧ (∀ b o, b < W.heap.size → w1.frozen? ⟨b, o, none⟩ = W.frozen? ⟨b, o, none⟩) :=
  ⟨fun b o h => hb.cell (p := ⟨b, o, none⟩) h, fun b o h => hb.frozen (p := ⟨b, o, none⟩) h⟩

end Go.Proofs.YtjjaemobgfconaaDoor
