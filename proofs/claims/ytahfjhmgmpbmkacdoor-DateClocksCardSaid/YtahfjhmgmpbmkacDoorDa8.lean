/-
  Contracts of date.hasForm and fieldsOf at this translation.
-/
import Derived.Test.YtahfjhmgmpbmkacDoorDa7
import Derived.BigQuiet
import Derived.Laws.Strings
namespace Go.Proofs.YtahfjhmgmpbmkacDoor
open Go.RowKit
set_option linter.unusedVariables false

/-- The byte of a string at an index, 0 beyond it. -/
def gB (s : ByteArray) (k : Nat) : Int := ((s.data.toList.getD k 0).toNat : Int)
theorem gB_bd (s : ByteArray) (k : Nat) : 0 ≤ gB s k ∧ gB s k ≤ 255 := by
  unfold gB
  have := (s.data.toList.getD k 0).toNat_lt
  omega
theorem idx (s : ByteArray) (k : Nat) (h : k < s.size) (w : World) : (Instr.index 9 (.string s) (.int .i64 (k : Int))).run Tryd.prog w = .ok (.int .u8 (gB s k)) w := by
  rw [Go.run_index_string w 9 s .i64 (k : Int) Tryd.underlying9]
  have hk : (0 : Int) ≤ k ∧ (k : Int) < s.size := by omega
  rw [dif_pos hk]
  obtain ⟨⟨l⟩⟩ := s
  have hl : k < l.length := h
  have e : (ByteArray.mk ⟨l⟩)[k]'hl = l.getD k 0 := by
    simp only [List.getD, List.getElem?_eq_getElem hl, Option.getD_some]
    rfl
  simp [gB, e]

/-- A byte suits a byte of the form. -/
def suits (x y : Int) : Prop := (y = 48 ∧ 48 ≤ x ∧ x ≤ 57) ∨ (y ≠ 48 ∧ x = y)
/-- The string has the form. -/
def HasForm (s f : ByteArray) : Prop := s.size = f.size ∧ ∀ j, j < s.size → suits (gB s j) (gB f j)

set_option maxRecDepth 20000 in
theorem hf_yes (s f : ByteArray) (w : World) (hl : f.size ≤ 100) (h : HasForm s f) : Calls Tryd.prog 50 #[.string s, .string f] w fun e w' => e = .returned (.bool true) ∧ ∃ n, w' = w.drewN n := by
  obtain ⟨hs, H⟩ := h
  have i1 := hide (idx s)
  have i2 := hide (idx f)
  have HH := hide H
  clear H
  go_enter Tryd.func50, Tryd.ntmps50
  go_wp2_with fail
  go_loopw [14] (fun i wr => ∃ k : Nat, k ≤ s.size ∧ i = .int .i64 k ∧ ∃ n, wr = w.drewN n) (fun i _ => s.size - (intOf i).toNat)
  case atStart => exact ⟨0, Nat.zero_le _, rfl, 0, rfl⟩
  case round =>
    obtain ⟨k, hk, rfl, n, rfl⟩ := hrel
    by_cases hlt : k < s.size
    · have j1 := i1.out k hlt
      have j2 := i2.out k (by omega)
      have S := hide (HH.out k hlt)
      obtain ⟨b1, b2⟩ := gB_bd s k
      obtain ⟨b3, b4⟩ := gB_bd f k
      generalize gB s k = x at *
      generalize gB f k = y at *
      rcases S.out with ⟨rfl, h1, h2⟩ | ⟨h1, rfl⟩
      · clear S
        have d1 : decide (48 ≤ x) = true := decide_eq_true h1
        have d2 : decide (x ≤ 57) = true := decide_eq_true h2
        go_wp2_with fail
        go_quiet (fail)
        go_wp2_with fail
        go_roundw
        case rel => exact ⟨k + 1, by omega, by go_num, _, rfl⟩
        case measure => simp [intOf]; omega
      · clear S
        have e1 : decide (x = 48) = false := decide_eq_false h1
        by_cases d : 48 ≤ x
        · by_cases d' : x ≤ 57
          · go_wp2_with fail
            go_quiet (fail)
            go_wp2_with fail
            go_roundw
            case rel => exact ⟨k + 1, by omega, by go_num, _, rfl⟩
            case measure => simp [intOf]; omega
          · have d2 : decide (x ≤ 57) = false := decide_eq_false d'
            go_wp2_with fail
            go_quiet (fail)
            go_wp2_with fail
            go_roundw
            case rel => exact ⟨k + 1, by omega, by go_num, _, rfl⟩
            case measure => simp [intOf]; omega
        · have d2 : decide (48 ≤ x) = false := decide_eq_false d
          go_wp2_with fail
          go_quiet (fail)
          go_wp2_with fail
          go_roundw
          case rel => exact ⟨k + 1, by omega, by go_num, _, rfl⟩
          case measure => simp [intOf]; omega
    · obtain rfl : k = s.size := by omega
      go_wp2_with fail
      go_ret
      exact ⟨rfl, _, rfl⟩
end Go.Proofs.YtahfjhmgmpbmkacDoor
