/-
  isWhole and the closures of Classify.
-/
import Derived.Test.YtnkjppclhhjdmaaRows
import Derived.Test.YtnkjppclhhjdmaaL5
import Derived.WalkKit
import Derived.WalkSpells
import Derived.StillTactics
import Derived.Laws.Pointers
import Derived.Laws.Strings
import Derived.Laws.Strings2
import Derived.Laws.BytesArg
import Derived.LoopTactic
import Derived.Outline
import Derived.Below
import Derived.Laws.Externs
import Derived.Deep.QuietTactic
import Derived.Deep.RegionWith
import Derived.BigQuiet
import Derived.RegionTactic
import Derived.ChangeAlike
import Derived.OwnWalk
import Derived.Laws.OwnMore
import Derived.Laws.Rows
import Derived.Laws.EntriesVeiled
import Derived.Lib.MinMax
import Derived.Lib.Strings
namespace Go.Proofs.Ytnkjppclhhjdmaa
open Go.RowKit
set_option linter.unusedVariables false
set_option linter.unusedSimpArgs false
set_option linter.unnecessarySimpa false

theorem bn_inj {a b : ByteArray} : bn a = bn b ↔ a = b := by
  constructor
  · intro h
    unfold bn at h
    have h2 : a.data.toList = b.data.toList := by
      exact (List.map_inj_right (fun x y hxy => UInt8.toNat_inj.1 hxy)).1 h
    exact ByteArray.ext (Array.toList_inj.1 h2)
  · intro h; rw [h]
theorem at0 (s : ByteArray) (h : 0 < s.size) : (s[0]'h).toNat = (bn s).getD 0 0 := by
  obtain ⟨⟨l⟩⟩ := s
  have hl : 0 < l.length := h
  unfold bn
  simp [List.getD, List.getElem?_eq_getElem hl]
  rfl
theorem toList_ne {a b : ByteArray} (h : a ≠ b) : (a.toList == b.toList) = false := by
  rw [beq_eq_false_iff_ne]
  intro e
  rw [Lib.toList_data, Lib.toList_data] at e
  exact h (ByteArray.ext (Array.toList_inj.1 e))
theorem size_ne {s : ByteArray} (h : s ≠ ⟨#[]⟩) : 0 < s.size := by
  rcases Nat.eq_zero_or_pos s.size with h0 | h0
  · exact absurd (ByteArray.ext (Array.eq_empty_of_size_eq_zero h0)) h
  · exact h0
/-- A whole number's form, decided. -/
theorem whole_cases (s : ByteArray) (h0 : s ≠ ⟨#[]⟩) (h1 : s ≠ ⟨#[48]⟩) : Lx.whole (bn s) = ((bn s).all Lx.dg && !((((bn s).getD 0 0 : Nat) : Int) == 48)) := by
  have hp := size_ne h0
  have hb : ((((bn s).getD 0 0 : Nat) : Int) == 48) = ((bn s).getD 0 0 == 48) := by
    rw [Bool.eq_iff_iff]; simp; omega
  have hx : s.size = 1 → (bn s).getD 0 0 ≠ 48 := by
    intro hs e
    apply h1
    rw [← bn_inj]
    have hl : (bn s).length = 1 := by rw [bn_len, hs]
    match hh : bn s, hl with
    | [x], _ =>
      rw [hh] at e
      simp at e
      subst e; rfl
  rw [hb]
  unfold Lx.whole
  rw [bn_len]
  clear hb
  generalize (bn s).getD 0 0 = y at *
  by_cases hs : s.size = 1
  · have hx' : (y == 48) = false := by simpa using hx hs
    have h2 : (s.size == 1) = true := by simp [hs]
    rw [h2, hx', Bool.true_or]; rfl
  · have h2 : (s.size == 1) = false := by simpa using hs
    have h3 : decide (1 < s.size) = true := decide_eq_true (by omega)
    rw [h2, h3, Bool.false_or, Bool.true_and]; rfl
set_option maxHeartbeats 4000000 in
set_option maxRecDepth 20000 in
theorem isWhole_any (s : ByteArray) (w : World) (hm : s.size ≤ 100000) : Calls Try.prog 22 #[.string s] w fun e w' => e = .returned (.bool (Lx.whole (bn s))) ∧ w = w' := by
  by_cases h0 : s = ⟨#[]⟩
  · subst h0
    go_enter Try.func22, Try.ntmps22
    go_wp2_with fail
    go_ret
    exact ⟨rfl, rfl⟩
  · have z0 : s.toList.isEmpty = false := by
      rw [List.isEmpty_eq_false_iff]
      intro e
      rw [Lib.toList_data] at e
      exact h0 (ByteArray.ext (Array.toList_inj.1 (e.trans rfl)))
    have hp := size_ne h0
    have AD := fun w => hide (all_digit s w hm)
    have i1 := idx s 0 hp
    by_cases h1 : s = ⟨#[48]⟩
    · subst h1
      have AD' : ∀ w, Hid (Calls Try.prog 25 #[.string ⟨#[48]⟩, .func (.func 41) #[] #[]] w fun e w' => e = .returned (.bool true) ∧ w = w') := AD
      clear AD i1
      go_enter Try.func22, Try.ntmps22
      go_wp2_with fail
      refine (AD' _).out.mono ?_
      rintro e w' ⟨rfl, rfl⟩
      go_wp2_with fail
      go_ret
      exact ⟨rfl, rfl⟩
    · have z1 : (s.toList == [48]) = false := by
        rw [beq_eq_false_iff_ne]
        intro e
        rw [Lib.toList_data] at e
        exact h1 (ByteArray.ext (Array.toList_inj.1 (e.trans rfl)))
      have HE := hide (whole_cases s h0 h1)
      have HA := hide (at0 s hp)
      generalize (bn s).all Lx.dg = d at *
      clear h0 h1
      cases d
      · go_enter Try.func22, Try.ntmps22
        go_wp2_with fail
        refine (AD _).out.mono ?_
        rintro e w' ⟨rfl, rfl⟩
        go_wp2_with fail
        go_ret
        exact ⟨ret_b (HE.out.trans rfl).symm, rfl⟩
      · go_enter Try.func22, Try.ntmps22
        go_wp2_with fail
        refine (AD _).out.mono ?_
        rintro e w' ⟨rfl, rfl⟩
        go_wp2_with fail
        go_ret
        exact ⟨ret_b (by rw [HA.out]; exact (HE.out.trans rfl).symm), rfl⟩
theorem c1_any (s : ByteArray) (w : World) (hm : s.size ≤ 100000) : Calls Try.prog 21 #[.string s] w fun e w' => e = .returned (.bool (Lx.whole (bn s) && decide ((bn s).length ≤ 16))) ∧ w = w' := by
  rw [bn_len]
  have WH := fun w => hide (isWhole_any s w hm)
  generalize Lx.whole (bn s) = d at *
  have hI : (s.size : Int) ≤ 100000 := by omega
  by_cases h : s.size ≤ 16
  · have h' : (s.size : Int) ≤ 16 := by omega
    rw [decide_eq_true h, Bool.and_true]
    clear h hm
    go_enter Try.func21, Try.ntmps21
    go_wp2_with fail
    refine (WH _).out.mono ?_
    rintro e w' ⟨rfl, rfl⟩
    go_wp2_with fail
    go_ret
    exact ⟨rfl, rfl⟩
  · have h' : ¬ (s.size : Int) ≤ 16 := by omega
    rw [decide_eq_false h, Bool.and_false]
    clear h hm
    go_enter Try.func21, Try.ntmps21
    go_wp2_with fail
    go_ret
    exact ⟨rfl, rfl⟩
theorem c2_any (s : ByteArray) (w : World) (hm : s.size ≤ 100000) : Calls Try.prog 24 #[.string s] w fun e w' => e = .returned (.bool ((bn s).all Lx.nm)) ∧ w = w' := by
  have WH := fun w => hide (all_name s w hm)
  go_enter Try.func24, Try.ntmps24
  go_wp2_with fail
  refine (WH _).out.mono ?_
  rintro e w' ⟨rfl, rfl⟩
  go_wp2_with fail
  go_ret
  exact ⟨rfl, rfl⟩
theorem c3_any (s : ByteArray) (w : World) (hm : s.size ≤ 100000) : Calls Try.prog 27 #[.string s] w fun e w' => e = .returned (.bool ((bn s).all Lx.lw)) ∧ w = w' := by
  have WH := fun w => hide (all_lower s w hm)
  go_enter Try.func27, Try.ntmps27
  go_wp2_with fail
  refine (WH _).out.mono ?_
  rintro e w' ⟨rfl, rfl⟩
  go_wp2_with fail
  go_ret
  exact ⟨rfl, rfl⟩

end Go.Proofs.Ytnkjppclhhjdmaa
