/-
  Tokens that came in.
-/
import Derived.Test.YtnkjppclhhjdmaaRows
import Derived.Test.YtnkjppclhhjdmaaLR
import Derived.Test.YtnkjppclhhjdmaaLeaf
import Derived.WalkKit
import Derived.WalkSpells
import Derived.StillTactics
import Derived.Laws.Pointers
import Derived.Laws.Strings
import Derived.Laws.Strings2
import Derived.Laws.BytesArg
import Derived.LoopTactic
import Derived.Outline
import Derived.Below
import Derived.Laws.Externs
import Derived.Deep.QuietTactic
import Derived.Deep.RegionWith
import Derived.BigQuiet
import Derived.RegionTactic
import Derived.ChangeAlike
import Derived.OwnWalk
import Derived.Laws.OwnMore
import Derived.Laws.Rows
import Derived.Laws.EntriesVeiled
import Derived.Lib.MinMax
import Derived.Lib.Strings
import Derived.Deep.Slices
namespace Go.Proofs.Ytnkjppclhhjdmaa
open Go.RowKit
set_option linter.unusedVariables false
set_option linter.unusedSimpArgs false
set_option linter.unnecessarySimpa false
set_option maxHeartbeats 4000000

open Go.ChangeShapes Go.WideShapes Go.ChangeAt
/-- A slice of tokens that came in. -/
def IsToks (w : World) (a : Option Addr) (len cap : Nat) : Prop :=
  (a = none ∧ len = 0 ∧ cap = 0) ∨ ∃ x : Addr, a = some x ∧ len ≤ cap ∧ cap ≤ maxLen ∧ ∀ i, i < len → x.spot = none ∧ x.block < w.heap.size ∧ ∃ r : Rw, r.t.size ≤ maxLen ∧
    w.cell? ⟨x.block, x.off + i * 3, none⟩ = some (.int .i64 r.k) ∧ w.cell? ⟨x.block, x.off + i * 3 + 1, none⟩ = some (.string r.t) ∧ w.cell? ⟨x.block, x.off + i * 3 + 2, none⟩ = some (.int .i64 r.p)
theorem IsToks.cut {w : World} {a : Option Addr} {len cap n : Nat} (h : IsToks w a len cap) (hn : n ≤ len) : ∃ L : List Rw, L.length = n ∧ RdR w (.slice a n cap) L ∧ (∀ r ∈ L, r.t.size ≤ maxLen) ∧
    ∀ W, (Instr.sliceAt 32 (.slice a len cap) none (some (.int .i64 (n : Int))) none).run Try.prog W = .ok (.slice a n cap) W := by
  have u := fun W => run_underlying (P := Try.prog) (w := W) Try.underlying32
  have z : ∀ W, (sizeOf 36).run Try.prog W = .ok 3 W := fun W => by kernel_rfl
  rcases h with ⟨rfl, rfl, rfl⟩ | ⟨x, rfl, h1, h2, h3⟩
  · obtain rfl : n = 0 := by omega
    exact ⟨[], rfl, ⟨none, 0, rfl, fun i r h => (by simp at h)⟩, fun r h => (by cases h), fun W => by simp [Instr.sliceAt, Instr.slice, Instr.sliceBounds, Instr.sliceBound, asIntOf, u, z, Sem.run_bind, Result.andThen]⟩
  · obtain ⟨f, hf⟩ : ∃ f : Nat → Rw, ∀ i, i < len → (f i).t.size ≤ maxLen ∧ w.cell? ⟨x.block, x.off + i * 3, none⟩ = some (.int .i64 (f i).k) ∧ w.cell? ⟨x.block, x.off + i * 3 + 1, none⟩ = some (.string (f i).t) ∧ w.cell? ⟨x.block, x.off + i * 3 + 2, none⟩ = some (.int .i64 (f i).p) := by
      classical
      refine ⟨fun i => if h : i < len then Classical.choose (h3 i h).2.2 else ⟨0, ⟨#[]⟩, 0⟩, fun i h => ?_⟩
      simp only [dif_pos h]
      exact Classical.choose_spec (h3 i h).2.2
    refine ⟨(List.range n).map f, by simp, ⟨some x, cap, by simp, fun i r hr => ?_⟩, fun r hr => ?_, fun W => ?_⟩
    · rw [List.getElem?_map] at hr
      have hi : i < n := by
        rcases Nat.lt_or_ge i n with h | h
        · exact h
        · rw [List.getElem?_eq_none (by simpa using h)] at hr; cases hr
      rw [List.getElem?_range hi] at hr
      obtain rfl := Option.some.inj hr
      obtain ⟨s1, s2, _⟩ := h3 i (by omega)
      obtain ⟨b, o, sp⟩ := x
      dsimp only at s1 s2 hf
      subst s1
      obtain ⟨_, c0, c1, c2⟩ := hf i (by omega)
      exact ⟨b, o, rfl, s2, c0, c1, c2⟩
    · obtain ⟨i, hi, rfl⟩ := List.mem_map.1 hr
      exact (hf i (by have := List.mem_range.1 hi; omega)).1
    · have h4 : (n : Int) ≤ cap := by omega
      have h5 : n ≤ cap := by omega
      have h6 : n ≤ 9223372036854775807 := by unfold maxLen at h2; omega
      have h7 : IntKind.i64.wrap (n : Int) = (n : Int) := by rw [IntKind.wrap_i64]; omega
      by_cases hc : cap = 0
      · obtain rfl : n = 0 := by omega
        subst hc
        simp [Instr.sliceAt, Instr.slice, Instr.sliceBounds, Instr.sliceBound, asIntOf, u, z, Sem.run_bind, Result.andThen, Addr.add]
      · simp [Instr.sliceAt, Instr.slice, Instr.sliceBounds, Instr.sliceBound, asIntOf, u, z, Sem.run_bind, Result.andThen, h4, h5, h7, hc, Addr.add]
variable {H : Type} {enc : TypeId × Value → H}
theorem leaf36 : leafAt Try.prog 3 36 0 = some 3 ∧ leafAt Try.prog 3 36 1 = some 9 ∧ leafAt Try.prog 3 36 2 = some 3 := by refine ⟨?_, ?_, ?_⟩ <;> kernel_rfl
theorem cells36 : Try.prog.cellsOf 36 = 3 := by kernel_rfl
theorem isToks_of {w : World} {fuel : Nat} {v : Value} {x : DataW H × List MemPlace} (h : DataW.trod enc Try.prog w 0 (fun _ => true) true fuel 32 [v] = some x) : ∃ a len cap, v = .slice a len cap ∧ IsToks w a len cap := by
  rcases Go.Deep.open_slice Try.underlying32 h with ⟨hc, _⟩ | ⟨a, len, cap, m, n, D, Pl, hc, hb, hl, hm, hmm, hx, hcell⟩
  · exact ⟨none, 0, 0, by simpa using hc, .inl ⟨rfl, rfl, rfl⟩⟩
  · refine ⟨some a, len, cap, by simpa using hc, .inr ⟨a, rfl, hl, hm, fun i hi => ?_⟩⟩
    have key : ∀ i k te, i < len → k < 3 → leafAt Try.prog 3 36 k = some te → ∃ u, w.cell? (a.add (i * 3 + k)) = some u ∧ CellOk Try.prog te u := by
      intro i k te hi hk hte
      obtain ⟨cs, h1, h2⟩ := hcell i (by rw [hmm]; simp; omega)
      rw [cells36] at h1
      obtain ⟨_, hlen, hcl⟩ := World.cells?_some h1
      have hk' : k < cs.length := by omega
      refine ⟨cs[k], ?_, leaf_ok 3 36 k te _ _ _ hte h2 _ (List.getElem?_eq_getElem hk')⟩
      have := hcl k (by omega)
      rw [Go.Deep.add_add] at this
      rw [this, List.getElem?_eq_getElem hk']
    obtain ⟨_, c00, _⟩ := key 0 0 3 (by omega) (by decide) leaf36.1
    obtain ⟨u0, c0, o0⟩ := key i 0 3 hi (by decide) leaf36.1
    obtain ⟨u1, c1, o1⟩ := key i 1 9 hi (by decide) leaf36.2.1
    obtain ⟨u2, c2, o2⟩ := key i 2 3 hi (by decide) leaf36.2.2
    obtain ⟨k, rfl, _⟩ := o0.1 .i64 Try.underlying3
    obtain ⟨t, rfl, ht⟩ := o1.2.2 Try.underlying9
    obtain ⟨p, rfl, _⟩ := o2.1 .i64 Try.underlying3
    obtain ⟨b, o, sp⟩ := a
    have hsp : sp = none := by
      have := World.cell?_spot c00
      simpa [Addr.add] using this
    subst hsp
    have ea : ∀ j, (⟨b, o, none⟩ : Addr).add j = ⟨b, o + j, none⟩ := by intro j; unfold Addr.add; split <;> simp_all
    rw [ea] at c0 c1 c2
    rw [Nat.add_zero] at c0
    exact ⟨rfl, (show b < w.heap.size from World.block_lt_of_cell? w ⟨b, o + i * 3, none⟩ c0), ⟨k, t, p⟩, ht, c0, by rw [Nat.add_assoc]; exact c1, by rw [Nat.add_assoc]; exact c2⟩

end Go.Proofs.Ytnkjppclhhjdmaa
