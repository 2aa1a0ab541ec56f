/-
  isDate.
-/
import Derived.Test.YtnkjppclhhjdmaaRows
import Derived.Test.YtnkjppclhhjdmaaL6
import Derived.WalkKit
import Derived.WalkSpells
import Derived.StillTactics
import Derived.Laws.Pointers
import Derived.Laws.Strings
import Derived.Laws.Strings2
import Derived.Laws.BytesArg
import Derived.LoopTactic
import Derived.Outline
import Derived.Below
import Derived.Laws.Externs
import Derived.Deep.QuietTactic
import Derived.Deep.RegionWith
import Derived.BigQuiet
import Derived.RegionTactic
import Derived.ChangeAlike
import Derived.OwnWalk
import Derived.Laws.OwnMore
import Derived.Laws.Rows
import Derived.Laws.EntriesVeiled
import Derived.Lib.MinMax
import Derived.Lib.Strings
namespace Go.Proofs.Ytnkjppclhhjdmaa
open Go.RowKit
set_option linter.unusedVariables false
set_option linter.unusedSimpArgs false
set_option linter.unnecessarySimpa false

theorem quiet_left {P : Program} {f : FuncId} {args : Array Value} {w : World} {n : Nat} {v : Value}
    (h : Calls P f args (w.drewN n) fun e w' => e = .returned v ∧ w.drewN n = w') : Calls P f args (w.drewN n) fun e w'' => e = .returned v ∧ ∃ m, w'' = w.drewN m :=
  h.mono fun _ _ ⟨he, hm⟩ => ⟨he, n, hm.symm⟩
theorem quiet_add_left {P : Program} {f : FuncId} {args : Array Value} {w : World} {a n : Nat} {v : Value}
    (h : Calls P f args (w.drewN (a + n)) fun e w' => e = .returned v ∧ w.drewN (a + n) = w') :
    Calls P f args (w.drewN (a + n)) fun e w'' => e = .returned v ∧ ∃ m, w'' = w.drewN (a + m) :=
  h.mono fun _ _ ⟨he, hm⟩ => ⟨he, n, hm.symm⟩
def GD (l : List Nat) (i : Nat) : Bool := if i = 4 ∨ i = 7 then l.getD i 0 == 45 else Lx.dg (l.getD i 0)
theorem dateB_yes {l : List Nat} (h : l.length = 10) (g : ∀ j, j < 10 → GD l j = true) : Lx.dateB l = true := by
  unfold Lx.dateB
  rw [Bool.and_eq_true]
  refine ⟨by simpa using h, ?_⟩
  rw [List.all_eq_true]
  intro x hx
  exact g x (List.mem_range.1 hx)
theorem dateB_no {l : List Nat} (h : l.length ≠ 10) : Lx.dateB l = false := by
  unfold Lx.dateB
  have : (l.length == 10) = false := by simpa using h
  rw [this]; rfl
theorem dateB_bad {l : List Nat} {k : Nat} (hk : k < 10) (g : GD l k = false) : Lx.dateB l = false := by
  unfold Lx.dateB
  rw [Bool.and_eq_false_iff]
  right
  rw [Bool.eq_false_iff]
  intro e
  rw [List.all_eq_true] at e
  have := e k (List.mem_range.2 hk)
  rw [show (if k = 4 ∨ k = 7 then l.getD k 0 == 45 else Lx.dg (l.getD k 0)) = GD l k from rfl, g] at this
  exact absurd this (by decide)
theorem form_at : ∀ k, k < 10 → (bn ⟨#[48, 48, 48, 48, 45, 48, 48, 45, 48, 48]⟩).getD k 0 = if k = 4 ∨ k = 7 then 45 else 48 := by decide
theorem dg45 : Lx.dg 45 = false := by decide
set_option maxHeartbeats 4000000 in
set_option maxRecDepth 20000 in
theorem isDate_any (s : ByteArray) (w : World) (hm : s.size ≤ 100000) : Calls Try.prog 20 #[.string s] w fun e w' => e = .returned (.bool (Lx.dateB (bn s))) ∧ Below w.heap.size w w' := by
  by_cases h10 : s.size = 10
  · have i1 := hide (idx s)
    have i2 := hide (idx ⟨#[48, 48, 48, 48, 45, 48, 48, 45, 48, 48]⟩)
    have DG := fun c w => hide (isDigit_any c w)
    have hI : (s.size : Int) = 10 := by omega
    go_enter Try.func20, Try.ntmps20
    go_wp2_with fail
    go_loopw [9] (fun i wr => ∃ k : Nat, k ≤ 10 ∧ i = .int .i64 k ∧ Hid (∀ j, j < k → GD (bn s) j = true) ∧ ∃ n, wr = w.drewN n) (fun i _ => 10 - (intOf i).toNat)
    case atStart => exact ⟨0, Nat.zero_le _, rfl, hide (fun j h => absurd h (Nat.not_lt_zero j)), 0, rfl⟩
    case round =>
      obtain ⟨k, hk, rfl, HJ, n, rfl⟩ := hrel
      by_cases hlt : k < 10
      · have hlt' : (k : Int) < 10 := by omega
        have j1 := i1.out k (by omega)
        have j2 := i2.out k (show k < 10 from hlt)
        rw [form_at k hlt] at j2
        have dc := DG ((bn s).getD k 0)
        have HN := fun (h : GD (bn s) k = true) => hide (show ∀ j, j < k + 1 → GD (bn s) j = true from fun j hj => (Nat.lt_succ_iff_lt_or_eq.1 hj).elim (fun hj => HJ.out j hj) (fun hj => hj ▸ h))
        have HB := fun (h : GD (bn s) k = false) => hide (dateB_bad hlt h)
        obtain ⟨x, ex⟩ : ∃ x : Int, x = (((bn s).getD k 0 : Nat) : Int) := ⟨_, rfl⟩
        rw [← ex] at j1 dc
        obtain ⟨d, ed⟩ : ∃ d, d = Lx.dg ((bn s).getD k 0) := ⟨_, rfl⟩
        rw [← ed] at dc
        have EX := hide ex
        have ED := hide ed
        clear i1 i2 DG ex ed
        by_cases h47 : k = 4 ∨ k = 7
        · rw [if_pos h47] at j2
          have EG := hide (show GD (bn s) k = ((bn s).getD k 0 == 45) by unfold GD; rw [if_pos h47])
          clear h47
          cases d
          · by_cases hx : x = 45
            · subst hx
              have HN' := HN (by rw [EG.out, beq_iff_eq]; have := EX.out; omega)
              clear HN HB
              go_wp2_with fail
              go_quiet ((go_at_call 41; exact quiet_add_left (dc _).out))
              go_wp2_with fail
              go_roundw
              case rel => exact ⟨k + 1, hlt, by go_num, HN', _, rfl⟩
              case measure => simp [intOf]; omega
            · have hx1 : (x != 45) = true := by simpa using hx
              have HB' := HB (by rw [EG.out, beq_eq_false_iff_ne]; intro e; exact hx (by rw [EX.out, e]; rfl))
              clear HN HB hx
              go_wp2_with fail
              go_quiet ((go_at_call 41; exact quiet_add_left (dc _).out))
              go_wp2_with fail
              go_ret
              exact ⟨ret_b HB'.out.symm, below_drewN (below_drewN (Below.refl _ _) _) _⟩
          · have HB' := HB (by
              rw [EG.out]
              have := ED.out
              rw [Bool.eq_false_iff]
              intro e
              rw [beq_iff_eq.1 e] at this
              exact absurd this (by decide))
            clear HN HB
            go_wp2_with fail
            go_quiet ((go_at_call 41; exact quiet_add_left (dc _).out))
            go_wp2_with fail
            go_ret
            exact ⟨ret_b HB'.out.symm, below_drewN (below_drewN (Below.refl _ _) _) _⟩
        · rw [if_neg h47] at j2
          have EG := hide (show GD (bn s) k = Lx.dg ((bn s).getD k 0) by unfold GD; rw [if_neg h47])
          clear h47
          cases d
          · have HB' := HB (by rw [EG.out]; exact ED.out.symm)
            clear HN HB
            go_wp2_with fail
            go_quiet ((go_at_call 41; exact quiet_add_left (dc _).out))
            go_wp2_with fail
            go_ret
            exact ⟨ret_b HB'.out.symm, below_drewN (below_drewN (Below.refl _ _) _) _⟩
          · have HN' := HN (by rw [EG.out]; exact ED.out.symm)
            clear HN HB
            go_wp2_with fail
            go_quiet ((go_at_call 41; exact quiet_add_left (dc _).out))
            go_wp2_with fail
            go_roundw
            case rel => exact ⟨k + 1, hlt, by go_num, HN', _, rfl⟩
            case measure => simp [intOf]; omega
      · obtain rfl : k = 10 := by omega
        have HE := hide (dateB_yes ((bn_len s).trans h10) HJ.out)
        clear i1 i2 DG
        go_wp2_with fail
        go_ret
        exact ⟨ret_b HE.out.symm, below_drewN (Below.refl _ _) _⟩
  · have hI : (s.size : Int) ≠ 10 := by omega
    have HE := hide (dateB_no (l := bn s) (by rw [bn_len]; exact h10))
    clear h10
    go_enter Try.func20, Try.ntmps20
    go_wp2_with fail
    go_ret
    exact ⟨ret_b HE.out.symm, Below.refl _ _⟩

end Go.Proofs.Ytnkjppclhhjdmaa
