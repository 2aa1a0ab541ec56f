/-
  Contracts of ident's inClass, classAt and checkLength at this translation.
-/
import Derived.Test.YtjjaemobgfconaaDoorId4
namespace Go.Proofs.YtjjaemobgfconaaDoor
open Go.RowKit
set_option linter.unusedVariables false

set_option maxHeartbeats 2000000 in
theorem ic_any (k c : Int) (w : World) (h0 : 0 ≤ k) (h3 : k ≤ 3) : Calls Tryd.prog 68 #[.int .i64 k, .int .u8 c] w fun e w' => e = .returned (.bool (inC k c)) ∧ Below w.heap.size w w' := by
  have hmf : ∀ (fn : Fn) (first cap : Array Value) (w : World), (Instr.makeFunc fn first cap).run Tryd.prog w = .ok (.func fn first cap) w := fun _ _ _ _ => rfl
  have le := fun w => hide (il_any c w)
  have di := fun w => hide (id_any c w)
  have la := fun p q w h => hide (ia_any c p q w h)
  have lx := fun p q w h => hide (ie_any c p q w h)
  have hk : k = 0 ∨ k = 1 ∨ k = 2 ∨ k = 3 := by omega
  have HB := hide ((((Below.refl w.heap.size w).alloc (Nat.le_refl _) (.cells #[.func (.func 71) #[] #[]] 101)).alloc (by simp) (.cells #[.func (.func 72) #[] #[]] 101)).alloc (by simp; omega) (.cells #[.func (.func 71) #[] #[], .func (.func 72) #[] #[], .func (.func 73) #[] #[.pointer (some ⟨w.heap.size, 0, none⟩), .pointer (some ⟨w.heap.size + 1, 0, none⟩)], .func (.func 74) #[] #[.pointer (some ⟨w.heap.size, 0, none⟩), .pointer (some ⟨w.heap.size + 1, 0, none⟩)]] 101))
  rcases hk with rfl | rfl | rfl | rfl
  · have e : inC 0 c = isL c := by simp [inC]
    rw [e]
    clear e h0 h3
    go_enter Tryd.func68, Tryd.ntmps68
    go_wp2_with fail
    refine (le _).out.mono ?_
    rintro e w' ⟨rfl, rfl⟩
    go_wp2_with fail
    go_ret
    exact ⟨rfl, HB.out⟩
  · have e : inC 1 c = isD c := by simp [inC]
    rw [e]
    clear e h0 h3
    go_enter Tryd.func68, Tryd.ntmps68
    go_wp2_with fail
    refine (di _).out.mono ?_
    rintro e w' ⟨rfl, rfl⟩
    go_wp2_with fail
    go_ret
    exact ⟨rfl, HB.out⟩
  · clear h0 h3
    go_enter Tryd.func68, Tryd.ntmps68
    go_wp2_with fail
    refine (la _ _ _ (by simp [Two, go_sem])).out.mono ?_
    rintro e w' ⟨rfl, rfl⟩
    go_wp2_with fail
    go_ret
    exact ⟨rfl, HB.out⟩
  · clear h0 h3
    go_enter Tryd.func68, Tryd.ntmps68
    go_wp2_with fail
    refine (lx _ _ _ (by simp [Two, go_sem])).out.mono ?_
    rintro e w' ⟨rfl, rfl⟩
    go_wp2_with fail
    go_ret
    exact ⟨rfl, HB.out⟩

/-- The class of a position by a shape. -/
def clA (b c d e f g i : Int) : Int := if i < c then e else if b - d ≤ i then g else f
theorem ca_any (a b c d e f g i : Int) (w : World) (b0 : 0 ≤ b) (b1 : b ≤ 100) (d0 : 0 ≤ d) (d1 : d ≤ 100) :
    Calls Tryd.prog 61 #[.agg #[.int .i64 a, .int .i64 b, .int .i64 c, .int .i64 d, .int .i64 e, .int .i64 f, .int .i64 g], .int .i64 i] w fun e' w' => e' = .returned (.int .i64 (clA b c d e f g i)) ∧ Below w.heap.size w w' := by
  have HB := hide ((Below.refl w.heap.size w).alloc (Nat.le_refl _) (.cells #[.int .i64 a, .int .i64 b, .int .i64 c, .int .i64 d, .int .i64 e, .int .i64 f, .int .i64 g] 95))
  by_cases h1 : i < c
  · have q : clA b c d e f g i = e := if_pos h1
    rw [q]
    clear q
    go_enter Tryd.func61, Tryd.ntmps61
    go_wp2
    go_ret
    exact ⟨rfl, HB.out⟩
  · by_cases h2 : b - d ≤ i
    · have q : clA b c d e f g i = g := by unfold clA; rw [if_neg h1, if_pos h2]
      rw [q]
      clear q
      go_enter Tryd.func61, Tryd.ntmps61
      go_wp2
      go_ret
      exact ⟨rfl, HB.out⟩
    · have q : clA b c d e f g i = f := by unfold clA; rw [if_neg h1, if_neg h2]
      rw [q]
      clear q
      go_enter Tryd.func61, Tryd.ntmps61
      go_wp2
      go_ret
      exact ⟨rfl, HB.out⟩
end Go.Proofs.YtjjaemobgfconaaDoor
