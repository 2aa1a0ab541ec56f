/-
  Plain: the dot of a decimal, the sign.
-/
import Derived.Test.YtnkjppclhhjdmaaRows
import Derived.Test.YtnkjppclhhjdmaaL7
import Derived.Test.YtnkjppclhhjdmaaShelf
import Derived.WalkKit
import Derived.WalkSpells
import Derived.StillTactics
import Derived.Laws.Pointers
import Derived.Laws.Strings
import Derived.Laws.Strings2
import Derived.Laws.BytesArg
import Derived.LoopTactic
import Derived.Outline
import Derived.Below
import Derived.Laws.Externs
import Derived.Deep.QuietTactic
import Derived.Deep.RegionWith
import Derived.BigQuiet
import Derived.RegionTactic
import Derived.ChangeAlike
import Derived.OwnWalk
import Derived.Laws.OwnMore
import Derived.Laws.Rows
import Derived.Laws.EntriesVeiled
import Derived.Lib.MinMax
import Derived.Lib.Strings
namespace Go.Proofs.Ytnkjppclhhjdmaa
open Go.RowKit
set_option linter.unusedVariables false
set_option linter.unusedSimpArgs false
set_option linter.unnecessarySimpa false

theorem idx_run (l : List UInt8) (c : UInt8) : Lib.indexByte l c = if Lx.run (fun x => x != c.toNat) (l.map UInt8.toNat) < l.length then (Lx.run (fun x => x != c.toNat) (l.map UInt8.toNat) : Int) else -1 := by
  induction l with
  | nil => rfl
  | cons b l ih =>
    by_cases hb : b = c
    · subst hb
      have : Lx.run (fun x => x != b.toNat) ((b :: l).map UInt8.toNat) = 0 := by simp [Lx.run]
      rw [this]; simp [Lib.indexByte]
    · have h2 : (b.toNat != c.toNat) = true := by
        rw [bne_iff_ne]; intro e; exact hb (UInt8.toNat_inj.1 e)
      have h3 : Lx.run (fun x => x != c.toNat) ((b :: l).map UInt8.toNat) = Lx.run (fun x => x != c.toNat) (l.map UInt8.toNat) + 1 := by simp [Lx.run, h2]
      rw [h3]
      have h4 : (b == c) = false := by simpa using hb
      unfold Lib.indexByte
      rw [h4, ih]
      generalize Lx.run (fun x => x != c.toNat) (l.map UInt8.toNat) = r
      by_cases hr : r < l.length
      · simp [hr] <;> omega
      · simp [hr]
theorem bn_ext (s : ByteArray) (a b : Nat) : bn (s.extract a b) = ((bn s).drop a).take (b - a) := by
  obtain ⟨⟨l⟩⟩ := s
  simp [bn, ByteArray.extract_mk, List.map_drop, List.map_take]
theorem run_lt {p : Nat → Bool} : ∀ {l : List Nat} {j : Nat}, j < Lx.run p l → p (l.getD j 0) = true
  | [], j, h => by simp [Lx.run] at h
  | a :: l, j, h => by
    by_cases hp : p a = true
    · have e : Lx.run p (a :: l) = Lx.run p l + 1 := by simp [Lx.run, hp]
      rw [e] at h
      cases j with
      | zero => simpa using hp
      | succ j => simpa using run_lt (l := l) (j := j) (by omega)
    · have e : Lx.run p (a :: l) = 0 := by simp [Lx.run, hp]
      omega
theorem run_at {p : Nat → Bool} : ∀ {l : List Nat}, Lx.run p l < l.length → p (l.getD (Lx.run p l) 0) = false
  | [], h => by simp at h
  | a :: l, h => by
    by_cases hp : p a = true
    · have e : Lx.run p (a :: l) = Lx.run p l + 1 := by simp [Lx.run, hp]
      rw [e] at h ⊢
      simpa using run_at (l := l) (by simpa using h)
    · have e : Lx.run p (a :: l) = 0 := by simp [Lx.run, hp]
      rw [e]; simpa using hp
theorem getD_drop (l : List Nat) (i j : Nat) : (l.drop i).getD j 0 = l.getD (i + j) 0 := by simp [List.getD]
theorem whole_dot {l : List Nat} {i : Nat} (hi : i < l.length) (h : l.getD i 0 = 46) : Lx.whole l = false := by
  have : l.all Lx.dg = false := by
    rw [Bool.eq_false_iff]
    intro e
    rw [List.all_eq_true] at e
    have := e (l.getD i 0) (by rw [List.getD_eq_getElem?_getD, List.getElem?_eq_getElem hi]; exact List.getElem_mem hi)
    rw [h] at this
    exact absurd this (by decide)
  unfold Lx.whole
  rw [this]; rfl
theorem dec2_none {m : List Nat} (h : ¬ Lx.run (fun x => x != 46) m < m.length) : Lx.dec2 m = false := by
  unfold Lx.dec2
  by_cases h4 : 4 ≤ m.length
  · have hr : m.length - 3 < Lx.run (fun x => x != 46) m := by omega
    have := run_lt hr
    simp only [bne_iff_ne, ne_eq] at this
    have h5 : (m.getD (m.length - 3) 0 == 46) = false := by rw [beq_eq_false_iff_ne]; exact this
    rw [h5]; simp
  · rw [decide_eq_false h4]; rfl
theorem dec2_cut {m : List Nat} {i : Nat} (hi : i = Lx.run (fun x => x != 46) m) (hlt : i < m.length) : Lx.dec2 m = (Lx.whole (m.take i) && ((m.drop (i + 1)).length == 2) && (m.drop (i + 1)).all Lx.dg) := by
  have hat : m.getD i 0 = 46 := by
    have := run_at (p := fun x => x != 46) (l := m) (by omega)
    rw [← hi] at this
    simpa using this
  by_cases h3 : i + 3 = m.length
  · have hl : (m.drop i).length = 3 := by rw [List.length_drop]; omega
    have hd : m.drop (i + 1) = (m.drop i).drop 1 := by rw [List.drop_drop]
    have g1 := getD_drop m i 1
    have g2 := getD_drop m i 2
    rw [hd]
    match hh : m.drop i, hl with
    | [a, b, c], _ =>
      rw [hh] at g1 g2
      simp at g1 g2
      unfold Lx.dec2
      rw [show m.length - 3 = i by omega, show m.length - 1 = i + 2 by omega, show m.length - 2 = i + 1 by omega, hat, List.getD_eq_getElem?_getD, List.getD_eq_getElem?_getD, ← g1, ← g2]
      by_cases h0 : i = 0
      · subst h0
        have : Lx.whole (m.take 0) = false := by simp [Lx.whole]
        rw [this]; simp
      · rw [decide_eq_true (show 4 ≤ m.length by omega)]
        simp
        cases Lx.dg b <;> cases Lx.dg c <;> cases Lx.whole (m.take i) <;> rfl
  · have hl : ((m.drop (i + 1)).length == 2) = false := by rw [beq_eq_false_iff_ne, List.length_drop]; omega
    rw [hl]
    simp only [Bool.and_false, Bool.false_and]
    unfold Lx.dec2
    by_cases h4 : 4 ≤ m.length
    · by_cases h5 : m.getD (m.length - 3) 0 = 46
      · have hle : ¬ m.length - 3 < i := fun h => by
          rw [hi] at h
          have := run_lt h
          simp only [bne_iff_ne, ne_eq] at this
          exact this h5
        have hw : Lx.whole (m.take (m.length - 3)) = false := whole_dot (i := i) (by rw [List.length_take]; omega) (by
          rw [List.getD_eq_getElem?_getD, List.getElem?_take_of_lt (by omega), ← List.getD_eq_getElem?_getD]; exact hat)
        rw [hw, Bool.and_false]
      · have h5' : (m.getD (m.length - 3) 0 == 46) = false := by rw [beq_eq_false_iff_ne]; exact h5
        rw [h5']; simp
    · rw [decide_eq_false h4]; rfl
def stripS (s : ByteArray) : ByteArray := if 0 < s.size ∧ (bn s).getD 0 0 = 45 then s.extract 1 s.size else s
theorem bn_stripS (s : ByteArray) : bn (stripS s) = Lx.strip (bn s) := by
  unfold stripS Lx.strip
  rw [bn_len]
  by_cases h : 0 < s.size ∧ (bn s).getD 0 0 = 45
  · have h2 : (decide (0 < s.size) && (bn s).getD 0 0 == 45) = true := by rw [decide_eq_true h.1, h.2]; rfl
    rw [if_pos h, if_pos h2, bn_ext]
    exact List.take_of_length_le (by rw [List.length_drop, bn_len]; exact Nat.le_refl _)
  · have h2 : ¬ (decide (0 < s.size) && (bn s).getD 0 0 == 45) = true := by
      rw [Bool.and_eq_true, decide_eq_true_iff, beq_iff_eq]; exact h
    rw [if_neg h, if_neg h2]
theorem stripS_le (s : ByteArray) : (stripS s).size ≤ s.size := by
  unfold stripS
  split
  · rw [ByteArray.size_extract]; omega
  · exact Nat.le_refl _

end Go.Proofs.Ytnkjppclhhjdmaa
