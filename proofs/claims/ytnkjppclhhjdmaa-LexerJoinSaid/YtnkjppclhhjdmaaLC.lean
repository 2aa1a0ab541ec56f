/-
  The reference: date, digits, name, word.
-/
import Derived.Test.YtnkjppclhhjdmaaRows
import Derived.Test.YtnkjppclhhjdmaaLB
import Derived.WalkKit
import Derived.WalkSpells
import Derived.StillTactics
import Derived.Laws.Pointers
import Derived.Laws.Strings
import Derived.Laws.Strings2
import Derived.Laws.BytesArg
import Derived.LoopTactic
import Derived.Outline
import Derived.Below
import Derived.Laws.Externs
import Derived.Deep.QuietTactic
import Derived.Deep.RegionWith
import Derived.BigQuiet
import Derived.RegionTactic
import Derived.ChangeAlike
import Derived.OwnWalk
import Derived.Laws.OwnMore
import Derived.Laws.Rows
import Derived.Laws.EntriesVeiled
import Derived.Lib.MinMax
import Derived.Lib.Strings
namespace Go.Proofs.Ytnkjppclhhjdmaa
open Go.RowKit
set_option linter.unusedVariables false
set_option linter.unusedSimpArgs false
set_option linter.unnecessarySimpa false

theorem idxI (s : ByteArray) (i : Int) (k : Nat) (h : i = (k : Int)) (hk : k < s.size) (w : World) : (Instr.index 9 (.string s) (.int .i64 i)).run Try.prog w = .ok (.int .u8 ((((bn s).getD k 0 : Nat)) : Int)) w := by rw [h]; exact idx s k hk w
theorem next_i {y : Int} {k : Nat} (h : y = (k : Int)) : Value.int .i64 (y + 1) = .int .i64 ((k + 1 : Nat) : Int) := by rw [h]; rfl
theorem step_all {p : Nat → Bool} {k : Nat} (h : ∀ j, j < k → p j = true) (hp : p k = true) : ∀ j, j < k + 1 → p j = true := fun j hj => (Nat.lt_succ_iff_lt_or_eq.1 hj).elim (fun hj => h j hj) (fun hj => hj ▸ hp)
theorem all_of {p : Nat → Bool} : ∀ {l : List Nat}, (∀ j, j < l.length → p (l.getD j 0) = true) → l.all p = true
  | [], _ => rfl
  | a :: l, h => by
    have h0 := h 0 (by simp)
    have := all_of (p := p) (l := l) (fun j hj => by simpa using h (j + 1) (by simpa using hj))
    simp at h0
    rw [List.all_cons, h0, this]; rfl
theorem all_not {p : Nat → Bool} {l : List Nat} {k : Nat} (hk : k < l.length) (h : p (l.getD k 0) = false) : l.all p = false := by
  rw [Bool.eq_false_iff]
  intro e
  rw [List.all_eq_true] at e
  have := e (l.getD k 0) (by rw [List.getD_eq_getElem?_getD, List.getElem?_eq_getElem hk]; exact List.getElem_mem hk)
  rw [h] at this
  exact absurd this (by decide)
set_option maxHeartbeats 4000000 in
set_option maxRecDepth 20000 in
theorem rdate_any (s : ByteArray) (w : World) (hm : s.size ≤ 100000) : Calls Try.prog 29 #[.string s] w fun e w' => e = .returned (.bool (Lx.dateB (bn s))) ∧ w = w' := by
  by_cases h10 : s.size = 10
  · have DG := fun c w => hide (rdigit_any c w)
    have i1 := hide (idxI s)
    have hI : (s.size : Int) = 10 := by omega
    go_enter Try.func29, Try.ntmps29
    go_wp2_with fail
    go_loopw [3] (fun i wr => ∃ (k : Nat) (y : Int), Hid (y = (k : Int)) ∧ 0 ≤ y ∧ y ≤ 10 ∧ i = .int .i64 y ∧ Hid (∀ j, j < k → GD (bn s) j = true) ∧ w = wr) (fun i _ => 10 - (intOf i).toNat)
    case atStart => exact ⟨0, 0, hide rfl, by omega, by omega, rfl, hide (fun j h => absurd h (Nat.not_lt_zero j)), rfl⟩
    case round =>
      obtain ⟨k, y, EY, y0, y10, rfl, HJ, rfl⟩ := hrel
      by_cases hlt : y < 10
      · have hk : k < 10 := by have := EY.out; omega
        have j1 := i1.out y k EY.out (by omega)
        have dc := DG ((bn s).getD k 0)
        have HN := fun (h : GD (bn s) k = true) => hide (step_all HJ.out h)
        have HB := fun (h : GD (bn s) k = false) => hide (dateB_bad hk h)
        obtain ⟨x, ex⟩ : ∃ x : Int, x = (((bn s).getD k 0 : Nat) : Int) := ⟨_, rfl⟩
        rw [← ex] at j1 dc
        obtain ⟨d, ed⟩ : ∃ d, d = Lx.dg ((bn s).getD k 0) := ⟨_, rfl⟩
        rw [← ed] at dc
        have EX := hide ex
        have ED := hide ed
        have EK := fun h => hide (show GD (bn s) k = ((bn s).getD k 0 == 45) by unfold GD; rw [if_pos h])
        have EN := fun h => hide (show GD (bn s) k = Lx.dg ((bn s).getD k 0) by unfold GD; rw [if_neg h])
        clear i1 DG ex ed HJ hk
        by_cases h4 : y = 4
        · have EG := EK (.inl (by have := EY.out; omega))
          subst h4
          clear EK EN
          by_cases hx : x = 45
          · subst hx
            have HN' := HN (by rw [EG.out, beq_iff_eq]; have := EX.out; omega)
            clear HN HB
            go_wp2_with fail
            go_roundw
            case rel => exact ⟨k + 1, _, hide (by have := EY.out; omega), by omega, by omega, rfl, HN', by simp⟩
            case measure => simp [intOf] <;> omega
          · have hx1 : (x != 45) = true := by simpa using hx
            have HB' := HB (by rw [EG.out, beq_eq_false_iff_ne]; intro e; exact hx (by rw [EX.out, e]; rfl))
            clear HN HB hx
            go_wp2_with fail
            go_ret
            exact ⟨ret_b HB'.out.symm, rfl⟩
        · by_cases h7 : y = 7
          · have EG := EK (.inr (by have := EY.out; omega))
            subst h7
            clear EK EN h4
            by_cases hx : x = 45
            · subst hx
              have HN' := HN (by rw [EG.out, beq_iff_eq]; have := EX.out; omega)
              clear HN HB
              go_wp2_with fail
              go_roundw
              case rel => exact ⟨k + 1, _, hide (by have := EY.out; omega), by omega, by omega, rfl, HN', by simp⟩
              case measure => simp [intOf] <;> omega
            · have hx1 : (x != 45) = true := by simpa using hx
              have HB' := HB (by rw [EG.out, beq_eq_false_iff_ne]; intro e; exact hx (by rw [EX.out, e]; rfl))
              clear HN HB hx
              go_wp2_with fail
              go_ret
              exact ⟨ret_b HB'.out.symm, rfl⟩
          · have EG := EN (by have := EY.out; omega)
            have g4 : (y == 4) = false := by simpa using h4
            have g7 : (y == 7) = false := by simpa using h7
            clear EK EN
            cases d
            · have HB' := HB (by rw [EG.out]; exact ED.out.symm)
              clear HN HB
              go_wp2_with fail
              refine (dc _).out.mono ?_
              rintro e w' ⟨rfl, rfl⟩
              go_wp2_with fail
              go_ret
              exact ⟨ret_b HB'.out.symm, rfl⟩
            · have HN' := HN (by rw [EG.out]; exact ED.out.symm)
              clear HN HB
              go_wp2_with fail
              refine (dc _).out.mono ?_
              rintro e w' ⟨rfl, rfl⟩
              go_wp2_with fail
              go_roundw
              case rel => exact ⟨k + 1, _, hide (by have := EY.out; omega), by omega, by omega, rfl, HN', by simp⟩
              case measure => simp [intOf] <;> omega
      · have HE := hide (dateB_yes ((bn_len s).trans h10) (fun j hj => HJ.out j (by have := EY.out; omega)))
        have hy : ¬ y < 10 := hlt
        clear i1 DG
        go_wp2_with fail
        go_ret
        exact ⟨ret_b HE.out.symm, rfl⟩
  · have hI : (s.size : Int) ≠ 10 := by omega
    have HE := hide (dateB_no (l := bn s) (by rw [bn_len]; exact h10))
    clear h10
    go_enter Try.func29, Try.ntmps29
    go_wp2_with fail
    go_ret
    exact ⟨ret_b HE.out.symm, rfl⟩

set_option maxHeartbeats 4000000 in
set_option maxRecDepth 20000 in
theorem rdigits_any (s : ByteArray) (w : World) (hm : s.size ≤ 100000) : Calls Try.prog 30 #[.string s] w fun e w' => e = .returned (.bool (Lx.whole (bn s))) ∧ w = w' := by
  have DG := fun c w => hide (rdigit_any c w)
  have i1 := hide (idxI s)
  have hI : (s.size : Int) ≤ 100000 := by omega
  go_enter Try.func30, Try.ntmps30
  go_wp2_with fail
  go_loopw [3] (fun i wr => ∃ (k : Nat) (y : Int), Hid (y = (k : Int)) ∧ 0 ≤ y ∧ y ≤ s.size ∧ i = .int .i64 y ∧ Hid (∀ j, j < k → Lx.dg ((bn s).getD j 0) = true) ∧ w = wr) (fun i _ => s.size - (intOf i).toNat)
  case atStart => exact ⟨0, 0, hide rfl, by omega, by omega, rfl, hide (fun j h => absurd h (Nat.not_lt_zero j)), rfl⟩
  case round =>
    obtain ⟨k, y, EY, y0, y10, rfl, HJ, rfl⟩ := hrel
    by_cases hlt : y < s.size
    · have hk : k < s.size := by have := EY.out; omega
      have j1 := i1.out y k EY.out hk
      have dc := DG ((bn s).getD k 0)
      have HN := fun (h : Lx.dg ((bn s).getD k 0) = true) => hide (step_all (p := fun j => Lx.dg ((bn s).getD j 0)) HJ.out h)
      have HB := fun (h : Lx.dg ((bn s).getD k 0) = false) => hide (show (Lx.whole (bn s)) = false by unfold Lx.whole; rw [Bool.and_eq_false_iff]; left; exact (all_not (by rw [bn_len]; exact hk) h))
      obtain ⟨x, ex⟩ : ∃ x : Int, x = (((bn s).getD k 0 : Nat) : Int) := ⟨_, rfl⟩
      rw [← ex] at j1 dc
      obtain ⟨d, ed⟩ : ∃ d, d = Lx.dg ((bn s).getD k 0) := ⟨_, rfl⟩
      rw [← ed] at dc
      have EX := hide ex
      have ED := hide ed
      clear i1 DG ex ed HJ hk

      cases d
      · have HB' := HB ED.out.symm
        clear HN HB
        go_wp2_with fail
        refine (dc _).out.mono ?_
        rintro e w' ⟨rfl, rfl⟩
        go_wp2_with fail
        go_ret
        exact ⟨ret_b HB'.out.symm, rfl⟩
      · have HN' := HN ED.out.symm
        clear HN HB
        go_wp2_with fail
        refine (dc _).out.mono ?_
        rintro e w' ⟨rfl, rfl⟩
        go_wp2_with fail
        go_roundw
        case rel => exact ⟨k + 1, _, hide (by have := EY.out; omega), by omega, by omega, rfl, HN', by simp⟩
        case measure => simp [intOf] <;> omega
    · have HA := hide (all_of (p := Lx.dg) (l := bn s) (fun j hj => HJ.out j (by rw [bn_len] at hj; have := EY.out; omega)))
      clear i1 DG

      by_cases h1 : s.size = 1
      · have h1' : (s.size : Int) = 1 := by omega
        have HE := hide (show Lx.whole (bn s) = true by unfold Lx.whole; rw [HA.out, bn_len, h1]; rfl)
        clear HA h1
        go_wp2_with fail
        go_ret
        exact ⟨ret_b HE.out.symm, rfl⟩
      · have h1' : ((s.size : Int) == 1) = false := by rw [beq_eq_false_iff_ne]; omega
        by_cases h2 : 1 < s.size
        · have h2' : (1 : Int) < s.size := by omega
          have hp : 0 < s.size := by omega
          have HE := hide (show Lx.whole (bn s) = ((((s[0]'hp).toNat : Nat) : Int) != 48) by
            unfold Lx.whole
            rw [HA.out, bn_len, decide_eq_true h2, show (s.size == 1) = false from beq_eq_false_iff_ne.2 h1, ← at0 s hp, Bool.true_and, Bool.true_and, Bool.false_or, Bool.eq_iff_iff, bne_iff_ne, bne_iff_ne]
            omega)
          clear HA h1 h2
          go_wp2_with fail
          go_ret
          exact ⟨ret_b HE.out.symm, rfl⟩
        · have h2' : ¬ (1 : Int) < s.size := by omega
          have HE := hide (show Lx.whole (bn s) = false by
            unfold Lx.whole
            rw [HA.out, bn_len, decide_eq_false h2, show (s.size == 1) = false from beq_eq_false_iff_ne.2 h1]; rfl)
          clear HA h1 h2
          go_wp2_with fail
          go_ret
          exact ⟨ret_b HE.out.symm, rfl⟩

set_option maxHeartbeats 4000000 in
set_option maxRecDepth 20000 in
theorem rname_any (s : ByteArray) (w : World) (hm : s.size ≤ 100000) : Calls Try.prog 32 #[.string s] w fun e w' => e = .returned (.bool (Lx.nameB (bn s))) ∧ w = w' := by
  have DG := fun c w => hide (rdigit_any c w)
  have i1 := hide (idxI s)
  have hI : (s.size : Int) ≤ 100000 := by omega
  go_enter Try.func32, Try.ntmps32
  go_wp2_with fail
  go_loopw [3] (fun i wr => ∃ (k : Nat) (y : Int), Hid (y = (k : Int)) ∧ 0 ≤ y ∧ y ≤ s.size ∧ i = .int .i64 y ∧ Hid (∀ j, j < k → Lx.nm ((bn s).getD j 0) = true) ∧ w = wr) (fun i _ => s.size - (intOf i).toNat)
  case atStart => exact ⟨0, 0, hide rfl, by omega, by omega, rfl, hide (fun j h => absurd h (Nat.not_lt_zero j)), rfl⟩
  case round =>
    obtain ⟨k, y, EY, y0, y10, rfl, HJ, rfl⟩ := hrel
    by_cases hlt : y < s.size
    · have hk : k < s.size := by have := EY.out; omega
      have j1 := i1.out y k EY.out hk
      have dc := DG ((bn s).getD k 0)
      have HN := fun (h : Lx.nm ((bn s).getD k 0) = true) => hide (step_all (p := fun j => Lx.nm ((bn s).getD j 0)) HJ.out h)
      have HB := fun (h : Lx.nm ((bn s).getD k 0) = false) => hide (show (Lx.nameB (bn s)) = false by unfold Lx.nameB; rw [Bool.and_eq_false_iff]; left; exact (all_not (by rw [bn_len]; exact hk) h))
      obtain ⟨x, ex⟩ : ∃ x : Int, x = (((bn s).getD k 0 : Nat) : Int) := ⟨_, rfl⟩
      rw [← ex] at j1 dc
      obtain ⟨d, ed⟩ : ∃ d, d = Lx.dg ((bn s).getD k 0) := ⟨_, rfl⟩
      rw [← ed] at dc
      have EX := hide ex
      have ED := hide ed
      clear i1 DG ex ed HJ hk

      cases d
      · by_cases h45 : x = 45
        · have HN' := HN (by unfold Lx.nm; rw [← ED.out, show ((bn s).getD k 0 == 45) = true from beq_iff_eq.2 (by have := EX.out; omega), Bool.or_true])
          subst h45
          clear HN HB
          go_wp2_with fail
          refine (dc _).out.mono ?_
          rintro e w' ⟨rfl, rfl⟩
          go_wp2_with fail
          go_roundw
          case rel => exact ⟨k + 1, _, hide (by have := EY.out; omega), by omega, by omega, rfl, HN', by simp⟩
          case measure => simp [intOf] <;> omega
        · have g45 : (x != 45) = true := by simpa using h45
          by_cases h65 : x < 65
          · have HB' := HB (by unfold Lx.nm; rw [← ED.out, show ((bn s).getD k 0 == 45) = false from beq_eq_false_iff_ne.2 (by have := EX.out; omega), decide_eq_false (show ¬ 65 ≤ (bn s).getD k 0 by have := EX.out; omega)]; rfl)
            clear HN HB
            go_wp2_with fail
            refine (dc _).out.mono ?_
            rintro e w' ⟨rfl, rfl⟩
            go_wp2_with fail
            go_ret
            exact ⟨ret_b HB'.out.symm, rfl⟩
          · by_cases h90 : 90 < x
            · have HB' := HB (by unfold Lx.nm; rw [← ED.out, show ((bn s).getD k 0 == 45) = false from beq_eq_false_iff_ne.2 (by have := EX.out; omega), decide_eq_false (show ¬ (bn s).getD k 0 ≤ 90 by have := EX.out; omega), Bool.and_false]; rfl)
              clear HN HB
              go_wp2_with fail
              refine (dc _).out.mono ?_
              rintro e w' ⟨rfl, rfl⟩
              go_wp2_with fail
              go_ret
              exact ⟨ret_b HB'.out.symm, rfl⟩
            · have HN' := HN (by unfold Lx.nm; rw [decide_eq_true (show 65 ≤ (bn s).getD k 0 by have := EX.out; omega), decide_eq_true (show (bn s).getD k 0 ≤ 90 by have := EX.out; omega)]; rfl)
              clear HN HB
              go_wp2_with fail
              refine (dc _).out.mono ?_
              rintro e w' ⟨rfl, rfl⟩
              go_wp2_with fail
              go_roundw
              case rel => exact ⟨k + 1, _, hide (by have := EY.out; omega), by omega, by omega, rfl, HN', by simp⟩
              case measure => simp [intOf] <;> omega
      · have HN' := HN (by unfold Lx.nm; rw [← ED.out, Bool.or_true, Bool.true_or])
        clear HN HB
        go_wp2_with fail
        refine (dc _).out.mono ?_
        rintro e w' ⟨rfl, rfl⟩
        go_wp2_with fail
        go_roundw
        case rel => exact ⟨k + 1, _, hide (by have := EY.out; omega), by omega, by omega, rfl, HN', by simp⟩
        case measure => simp [intOf] <;> omega
    · have HA := hide (all_of (p := Lx.nm) (l := bn s) (fun j hj => HJ.out j (by rw [bn_len] at hj; have := EY.out; omega)))
      clear i1 DG

      have HE := hide (show decide (0 < s.size) = Lx.nameB (bn s) by unfold Lx.nameB; rw [HA.out, bn_len]; rfl)
      clear HA
      go_wp2_with fail
      go_ret
      exact ⟨ret_b HE.out, rfl⟩

set_option maxHeartbeats 4000000 in
set_option maxRecDepth 20000 in
theorem rword_any (s : ByteArray) (w : World) (hm : s.size ≤ 100000) : Calls Try.prog 33 #[.string s] w fun e w' => e = .returned (.bool (Lx.wordB (bn s))) ∧ w = w' := by
  have DG := fun c w => hide (rdigit_any c w)
  have i1 := hide (idxI s)
  have hI : (s.size : Int) ≤ 100000 := by omega
  go_enter Try.func33, Try.ntmps33
  go_wp2_with fail
  go_loopw [3] (fun i wr => ∃ (k : Nat) (y : Int), Hid (y = (k : Int)) ∧ 0 ≤ y ∧ y ≤ s.size ∧ i = .int .i64 y ∧ Hid (∀ j, j < k → Lx.lw ((bn s).getD j 0) = true) ∧ w = wr) (fun i _ => s.size - (intOf i).toNat)
  case atStart => exact ⟨0, 0, hide rfl, by omega, by omega, rfl, hide (fun j h => absurd h (Nat.not_lt_zero j)), rfl⟩
  case round =>
    obtain ⟨k, y, EY, y0, y10, rfl, HJ, rfl⟩ := hrel
    by_cases hlt : y < s.size
    · have hk : k < s.size := by have := EY.out; omega
      have j1 := i1.out y k EY.out hk
      have dc := DG ((bn s).getD k 0)
      have HN := fun (h : Lx.lw ((bn s).getD k 0) = true) => hide (step_all (p := fun j => Lx.lw ((bn s).getD j 0)) HJ.out h)
      have HB := fun (h : Lx.lw ((bn s).getD k 0) = false) => hide (show (Lx.wordB (bn s)) = false by unfold Lx.wordB; rw [Bool.and_eq_false_iff]; left; exact (all_not (by rw [bn_len]; exact hk) h))
      obtain ⟨x, ex⟩ : ∃ x : Int, x = (((bn s).getD k 0 : Nat) : Int) := ⟨_, rfl⟩
      rw [← ex] at j1 dc
      obtain ⟨d, ed⟩ : ∃ d, d = Lx.dg ((bn s).getD k 0) := ⟨_, rfl⟩
      rw [← ed] at dc
      have EX := hide ex
      have ED := hide ed
      clear i1 DG ex ed HJ hk

      by_cases h65 : x < 97
      · have HB' := HB (by unfold Lx.lw; rw [decide_eq_false (show ¬ 97 ≤ (bn s).getD k 0 by have := EX.out; omega)]; rfl)
        clear HN HB dc
        go_wp2_with fail
        go_ret
        exact ⟨ret_b HB'.out.symm, rfl⟩
      · by_cases h90 : 122 < x
        · have HB' := HB (by unfold Lx.lw; rw [decide_eq_false (show ¬ (bn s).getD k 0 ≤ 122 by have := EX.out; omega), Bool.and_false])
          clear HN HB dc
          go_wp2_with fail
          go_ret
          exact ⟨ret_b HB'.out.symm, rfl⟩
        · have HN' := HN (by unfold Lx.lw; rw [decide_eq_true (show 97 ≤ (bn s).getD k 0 by have := EX.out; omega), decide_eq_true (show (bn s).getD k 0 ≤ 122 by have := EX.out; omega)]; rfl)
          clear HN HB dc
          go_wp2_with fail
          go_roundw
          case rel => exact ⟨k + 1, _, hide (by have := EY.out; omega), by omega, by omega, rfl, HN', by simp⟩
          case measure => simp [intOf] <;> omega
    · have HA := hide (all_of (p := Lx.lw) (l := bn s) (fun j hj => HJ.out j (by rw [bn_len] at hj; have := EY.out; omega)))
      clear i1 DG

      have HE := hide (show decide (0 < s.size) = Lx.wordB (bn s) by unfold Lx.wordB; rw [HA.out, bn_len]; rfl)
      clear HA
      go_wp2_with fail
      go_ret
      exact ⟨ret_b HE.out, rfl⟩

end Go.Proofs.Ytnkjppclhhjdmaa
