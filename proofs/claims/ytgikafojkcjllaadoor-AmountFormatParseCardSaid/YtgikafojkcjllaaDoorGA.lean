/-
  strings.Cut at a dot, where the dot's place is known, at this translation.
-/
import Derived.Test.YtgikafojkcjllaaDoorFZ
import Derived.Deep.QuietTactic
import Derived.BigQuiet
namespace Go.Proofs.YtgikafojkcjllaaDoor
open Go.RowKit
set_option linter.unusedVariables false
set_option linter.unusedSimpArgs false

set_option maxHeartbeats 4000000 in
theorem cut2_yes (s : ByteArray) (k : Nat) (w : World) (hm : s.size ≤ 100000) (hk : k < s.size) (h : Lib.indexByte s.data.toList 46 = (k : Int)) : Calls Tryd.prog 28 #[.string s, .string ⟨#[46]⟩] w fun e w' => e = .returned (.tuple #[.string (s.extract 0 k), .string (s.extract (k + 1) s.size), .bool true]) ∧ Below w.heap.size w w' := by
  have IX := fun w => hide (Tryd.stringslite_Index_one s 46 w)
  rw [h] at IX
  have hI : (s.size : Int) ≤ 100000 := by omega
  have h1 : (k : Int) < s.size := by omega
  have h2 : (k : Int) + 1 ≤ s.size := by omega
  have h3 : k ≤ s.size := by omega
  have h4 : k + 1 ≤ s.size := by omega
  have ht : ((k : Int) + 1).toNat = k + 1 := by omega
  have h5 : (k : Int) ≤ s.size := by omega
  clear h
  go_enter Tryd.func28, Tryd.ntmps28
  go_wp2_with fail
  refine (IX _).out.mono ?_
  rintro e w' ⟨rfl, rfl⟩
  go_wp2_with fail
  go_quiet (fail)
  go_wp2_with fail
  exact bodyPost_ret (v := .tuple #[.string (s.extract 0 k), .string (s.extract (k + 1) s.size), .bool true]) (by simp [results, Tryd.results28, go_sem, ht]) rfl ⟨rfl, below_drewN (Below.refl _ _) _⟩
theorem cut_yes (s : ByteArray) (k : Nat) (w : World) (hm : s.size ≤ 100000) (hk : k < s.size) (h : Lib.indexByte s.data.toList 46 = (k : Int)) : Calls Tryd.prog 19 #[.string s, .string ⟨#[46]⟩] w fun e w' => e = .returned (.tuple #[.string (s.extract 0 k), .string (s.extract (k + 1) s.size), .bool true]) ∧ Below w.heap.size w w' := by
  have C := fun w => hide (cut2_yes s k w hm hk h)
  clear h
  generalize s.extract 0 k = a at *
  generalize s.extract (k + 1) s.size = b at *
  go_enter Tryd.func19, Tryd.ntmps19
  go_wp2_with fail
  refine (C _).out.mono ?_
  rintro e w' ⟨rfl, hb⟩
  have HB := hide hb
  clear hb
  go_wp2_with fail
  exact bodyPost_ret (v := .tuple #[.string a, .string b, .bool true]) (by simp [results, Tryd.results19, go_sem]) rfl ⟨rfl, HB.out⟩
end Go.Proofs.YtgikafojkcjllaaDoor
