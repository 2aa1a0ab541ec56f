/-
  Contracts of amount.MulDiv and amount.MulRem at this translation, over a hypothesis on bits.Div64 at the words that they divide.
-/
import Derived.Test.YtgikafojkcjllaaDoorAm4
namespace Go.Proofs.YtgikafojkcjllaaDoor
open Go.RowKit

/-- The arguments of a product and quotient are accepted. -/
def okArgs (x num den : Int) : Prop := okA x ∧ okA num ∧ 1 ≤ den ∧ den ≤ 1000000000000000
instance (x num den : Int) : Decidable (okArgs x num den) := by unfold okArgs; infer_instance
/-- The exact product's rounded quotient. -/
def mdQ (x num den mode : Int) : Int := rnd (negB x num) (absP x num / den) (absP x num % den) den mode
def mdE (x num den mode : Int) : Int := if mode < 0 ∨ 3 < mode then 11 else if okArgs x num den then (if okA (mdQ x num den mode) then 0 else 12) else 2
def mdV (x num den mode : Int) : Int := if mdE x num den mode = 0 then mdQ x num den mode else 0

theorem rnd_ge (neg : Bool) (size rest den mode : Int) (h : 1000000000000000 < size) : ¬ okA (rnd neg size rest den mode) := by
  unfold rnd okA; cases neg <;> simp <;> split <;> omega
theorem mdE_mode (x num den mode : Int) (h : mode < 0 ∨ 3 < mode) : mdE x num den mode = 11 := by unfold mdE; rw [if_pos h]
theorem mdE_args (x num den mode : Int) (m1 : 0 ≤ mode) (m2 : mode ≤ 3) (h : ¬ okArgs x num den) : mdE x num den mode = 2 := by
  unfold mdE; rw [if_neg (by omega), if_neg h]
theorem mdE_over (x num den mode : Int) (m1 : 0 ≤ mode) (m2 : mode ≤ 3) (h : okArgs x num den) (hq : ¬ okA (mdQ x num den mode)) : mdE x num den mode = 12 := by
  unfold mdE; rw [if_neg (by omega), if_pos h, if_neg hq]
theorem mdE_ok (x num den mode : Int) (m1 : 0 ≤ mode) (m2 : mode ≤ 3) (h : okArgs x num den) (hq : okA (mdQ x num den mode)) : mdE x num den mode = 0 := by
  unfold mdE; rw [if_neg (by omega), if_pos h, if_pos hq]
theorem mdV_ne (x num den mode : Int) (h : mdE x num den mode ≠ 0) : mdV x num den mode = 0 := by unfold mdV; rw [if_neg h]
theorem mdV_ok (x num den mode : Int) (h : mdE x num den mode = 0) : mdV x num den mode = mdQ x num den mode := by unfold mdV; rw [if_pos h]

/-- What is asked of bits.Div64 for a product and a divisor. -/
def DivFor (x num den : Int) : Prop := absP x num / 18446744073709551616 < den → DivC (absP x num / 18446744073709551616) (absP x num % 18446744073709551616) den

theorem bcell {W w1 : World} (hb : Below W.heap.size W w1) : (∀ b o, b < W.heap.size → w1.cell? ⟨b, o, none⟩ = W.cell? ⟨b, o, none⟩) ∧ (∀ b o, b < W.heap.size → w1.frozen? ⟨b, o, none⟩ = W.frozen? ⟨b, o, none⟩) :=
  ⟨fun b o h => hb.cell (p := ⟨b, o, none⟩) h, fun b o h => hb.frozen (p := ⟨b, o, none⟩) h⟩

theorem muldiv_mode (x num den mode : Int) (w : World) (h : mode < 0 ∨ 3 < mode) :
    Calls Tryd.prog 16 #[.int .i64 x, .int .i64 num, .int .i64 den, .int .i64 mode] w fun e w' => e = .returned (.tuple #[.int .i64 (mdV x num den mode), .int .i64 (mdE x num den mode)]) ∧ Below w.heap.size w w' := by
  have he := mdE_mode x num den mode h
  have hv := mdV_ne x num den mode (by omega)
  rw [he, hv]
  clear he hv
  rcases h with h | h
  · go_enter Tryd.func16, Tryd.ntmps16
    go_wp2
    go_ret2
    exact ⟨rfl, Below.refl _ _⟩
  · have h' : ¬ mode < 0 := by omega
    go_enter Tryd.func16, Tryd.ntmps16
    go_wp2
    go_ret2
    exact ⟨rfl, Below.refl _ _⟩

theorem muldiv_args (x num den mode : Int) (w : World) (m1 : 0 ≤ mode) (m2 : mode ≤ 3) (h : ¬ okArgs x num den) :
    Calls Tryd.prog 16 #[.int .i64 x, .int .i64 num, .int .i64 den, .int .i64 mode] w fun e w' => e = .returned (.tuple #[.int .i64 (mdV x num den mode), .int .i64 (mdE x num den mode)]) ∧ Below w.heap.size w w' := by
  have he := mdE_args x num den mode m1 m2 h
  have hv := mdV_ne x num den mode (by omega)
  rw [he, hv]
  have c := hide (divide_bad x num den w h)
  clear he hv h
  go_enter Tryd.func16, Tryd.ntmps16
  go_wp2_with fail
  refine c.out.mono ?_
  rintro e w1 ⟨rfl, hb⟩
  have HB := hide hb
  clear hb
  go_wp2_with fail
  go_ret2
  exact ⟨rfl, HB.out.alloc HB.out.size _⟩

theorem muldiv_over (x num den mode : Int) (w : World) (m1 : 0 ≤ mode) (m2 : mode ≤ 3) (h : okArgs x num den) (hq : 1000000000000000 < absP x num / den) (D : DivFor x num den) :
    Calls Tryd.prog 16 #[.int .i64 x, .int .i64 num, .int .i64 den, .int .i64 mode] w fun e w' => e = .returned (.tuple #[.int .i64 (mdV x num den mode), .int .i64 (mdE x num den mode)]) ∧ Below w.heap.size w w' := by
  have he := mdE_over x num den mode m1 m2 h (rnd_ge _ _ _ _ _ hq)
  have hv := mdV_ne x num den mode (by omega)
  rw [he, hv]
  have c := hide (divide_over x num den w h.1 h.2.1 h.2.2.1 h.2.2.2 hq D)
  clear he hv h hq D
  go_enter Tryd.func16, Tryd.ntmps16
  go_wp2_with fail
  refine c.out.mono ?_
  rintro e w1 ⟨rfl, hb⟩
  have HB := hide hb
  clear hb
  go_wp2_with fail
  go_ret2
  exact ⟨rfl, HB.out.alloc HB.out.size _⟩

theorem muldiv_in (x num den mode : Int) (w : World) (m1 : 0 ≤ mode) (m2 : mode ≤ 3) (h : okArgs x num den) (hq : absP x num / den ≤ 1000000000000000) (D : DivFor x num den) :
    Calls Tryd.prog 16 #[.int .i64 x, .int .i64 num, .int .i64 den, .int .i64 mode] w fun e w' => e = .returned (.tuple #[.int .i64 (mdV x num den mode), .int .i64 (mdE x num den mode)]) ∧ Below w.heap.size w w' := by
  have hl := hi_lt _ _ h.2.2.1 hq
  have c := hide (divide_ok x num den w h.1 h.2.1 h.2.2.1 h.2.2.2 hq (D hl))
  have hp := (absP_bd x num h.1 h.2.1).1
  have p1 : 0 ≤ absP x num / den := Int.ediv_nonneg hp (by have := h.2.2.1; omega)
  have p2 := Int.emod_nonneg (absP x num) (show den ≠ 0 by have := h.2.2.1; omega)
  have p3 := Int.emod_lt_of_pos (absP x num) (show 0 < den by have := h.2.2.1; omega)
  have r := fun w => hide (round_any (negB x num) _ _ den mode w p1 hq p2 p3 h.2.2.2 m1 m2)
  by_cases ho : okA (mdQ x num den mode)
  · have he := mdE_ok x num den mode m1 m2 h ho
    have hv := mdV_ok x num den mode he
    rw [he, hv]
    have b := fun w => hide (bounded_yes (mdQ x num den mode) w ho.1 ho.2)
    clear he hv h hq D ho
    go_enter Tryd.func16, Tryd.ntmps16
    go_wp2_with fail
    refine c.out.mono ?_
    rintro e w1 ⟨rfl, hb⟩
    have HB := hide hb
    clear hb
    go_wp2_with fail
    refine (r _).out.mono ?_
    rintro e w2 ⟨rfl, hb⟩
    have HB2 := hide hb
    clear hb
    go_wp2_with fail
    refine (b _).out.mono ?_
    rintro e w' ⟨rfl, rfl⟩
    go_wp2_with fail
    go_ret2
    exact ⟨rfl, (HB.out.alloc HB.out.size _).trans (HB2.out.mono (by have := HB.out.size; simp; omega))⟩
  · have he := mdE_over x num den mode m1 m2 h ho
    have hv := mdV_ne x num den mode (by omega)
    rw [he, hv]
    have b := fun w => hide (bounded_no (mdQ x num den mode) w (by unfold okA at ho; omega))
    clear he hv h hq D ho
    go_enter Tryd.func16, Tryd.ntmps16
    go_wp2_with fail
    refine c.out.mono ?_
    rintro e w1 ⟨rfl, hb⟩
    have HB := hide hb
    clear hb
    go_wp2_with fail
    refine (r _).out.mono ?_
    rintro e w2 ⟨rfl, hb⟩
    have HB2 := hide hb
    clear hb
    go_wp2_with fail
    refine (b _).out.mono ?_
    rintro e w' ⟨rfl, rfl⟩
    go_wp2_with fail
    go_ret2
    exact ⟨rfl, (HB.out.alloc HB.out.size _).trans (HB2.out.mono (by have := HB.out.size; simp; omega))⟩

/-- amount.MulDiv. -/
theorem muldiv_any (x num den mode : Int) (w : World) (D : DivFor x num den) :
    Calls Tryd.prog 16 #[.int .i64 x, .int .i64 num, .int .i64 den, .int .i64 mode] w fun e w' => e = .returned (.tuple #[.int .i64 (mdV x num den mode), .int .i64 (mdE x num den mode)]) ∧ Below w.heap.size w w' := by
  by_cases hm : mode < 0 ∨ 3 < mode
  · exact muldiv_mode x num den mode w hm
  · by_cases h : okArgs x num den
    · by_cases hq : absP x num / den ≤ 1000000000000000
      · exact muldiv_in x num den mode w (by omega) (by omega) h hq D
      · exact muldiv_over x num den mode w (by omega) (by omega) h (by omega) D
    · exact muldiv_args x num den mode w (by omega) (by omega) h
end Go.Proofs.YtgikafojkcjllaaDoor
