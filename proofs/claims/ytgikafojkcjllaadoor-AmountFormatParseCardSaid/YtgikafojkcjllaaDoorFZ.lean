/-
  Whole numbers without superfluous zeros: amount.isWhole at this translation.
-/
import Derived.Test.YtgikafojkcjllaaDoorFY
namespace Go.Proofs.YtgikafojkcjllaaDoor
open Go.RowKit
set_option linter.unusedVariables false
set_option linter.unusedSimpArgs false

theorem txt_ne {s t : ByteArray} (h : s ≠ t) : (s.toList == t.toList) = false := by
  rw [beq_eq_false_iff_ne]
  intro e
  apply h
  rw [Lib.toList_data, Lib.toList_data] at e
  exact ByteArray.ext (Array.toList_inj.1 e)
theorem idx0 (s : ByteArray) (h : 0 < s.size) : ((s[0]'h).toNat : Int) = gb s 0 := by
  obtain ⟨⟨l⟩⟩ := s
  cases l with
  | nil => exact absurd h (Nat.lt_irrefl 0)
  | cons a l => rfl
theorem isw_yes (s : ByteArray) (w : World) (hm : s.size ≤ 1000000) (h1 : 0 < s.size) (h : ∀ j, j < s.size → Dg (gb s j)) (hz : gb s 0 ≠ 48 ∨ s.size = 1) : Calls Tryd.prog 20 #[.string s] w fun e w' => e = .returned (.bool true) ∧ Below w.heap.size w w' := by
  have AD := fun w => hide (alld_yes s w hm h)
  have ne : s ≠ ⟨#[]⟩ := by rintro rfl; exact absurd h1 (Nat.lt_irrefl 0)
  have nb := txt_ne ne
  have i0 := idx0 s h1
  have nl : ¬ s.toList = [] := by rw [Lib.toList_data]; intro e; have : s.data.toList.length = s.size := Array.length_toList; rw [e] at this; simp at this; omega
  have ne2 : s.toList.isEmpty = false := by simpa using nl
  clear nb nl
  have h1' : (0 : Int) < s.size := by omega
  clear h ne
  go_enter Tryd.func20, Tryd.ntmps20
  go_wp2_with fail
  refine (AD _).out.mono ?_
  rintro e w1 ⟨rfl, hb⟩
  have HB := hide hb
  clear hb
  rcases hz with hz | hz
  · generalize gb s 0 = c at *
    go_wp2_with fail
    go_ret
    exact ⟨rfl, HB.out⟩
  · generalize gb s 0 = c at *
    by_cases hc : c = 48
    · go_wp2_with fail
      go_ret
      exact ⟨rfl, HB.out⟩
    · go_wp2_with fail
      go_ret
      exact ⟨rfl, HB.out⟩
end Go.Proofs.YtgikafojkcjllaaDoor
