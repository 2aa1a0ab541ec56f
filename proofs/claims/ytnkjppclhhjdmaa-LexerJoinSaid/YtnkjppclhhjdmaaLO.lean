/-
  Bytes of an argument.
-/
import Derived.Test.YtnkjppclhhjdmaaRows
import Derived.Test.YtnkjppclhhjdmaaLM
import Derived.Test.YtnkjppclhhjdmaaLN
import Derived.Test.YtnkjppclhhjdmaaLexerErrorPrefixWalk
import Derived.WalkKit
import Derived.WalkSpells
import Derived.StillTactics
import Derived.Laws.Pointers
import Derived.Laws.Strings
import Derived.Laws.Strings2
import Derived.Laws.BytesArg
import Derived.LoopTactic
import Derived.Outline
import Derived.Below
import Derived.Laws.Externs
import Derived.Deep.QuietTactic
import Derived.Deep.RegionWith
import Derived.BigQuiet
import Derived.RegionTactic
import Derived.ChangeAlike
import Derived.OwnWalk
import Derived.Laws.OwnMore
import Derived.Laws.Rows
import Derived.Laws.EntriesVeiled
import Derived.Lib.MinMax
import Derived.Lib.Strings
namespace Go.Proofs.Ytnkjppclhhjdmaa
open Go.RowKit
set_option linter.unusedVariables false
set_option linter.unusedSimpArgs false
set_option linter.unnecessarySimpa false

def IsRow (k : IntKind) (w : World) (a : Option Addr) (len cap : Nat) (zs : List Int) : Prop :=
  (a = none ∧ len = 0 ∧ cap = 0 ∧ zs = []) ∨
  ∃ x, a = some x ∧ len ≤ cap ∧ cap ≤ maxLen ∧ zs.length = cap ∧ (∀ i, i < zs.length → w.cell? (x.add i) = some (.int k (zs.getD i 0))) ∧ ∀ n ∈ zs, (Lit.int k n).wf = true
theorem IsRow.bytes {w : World} {a : Option Addr} {len cap : Nat} {zs : List Int} (h : IsRow .u8 w a len cap zs) : ∃ l : List Nat, ∀ k, k < len → ∃ b off, a = some ⟨b, off, none⟩ ∧ b < w.heap.size ∧ w.cell? ⟨b, off + k, none⟩ = some (.int .u8 ((l.getD k 0 : Nat) : Int)) ∧ l.getD k 0 < 256 := by
  rcases h with ⟨rfl, rfl, rfl, rfl⟩ | ⟨x, rfl, h1, h2, h3, hc, hw⟩
  · exact ⟨[], fun k hk => absurd hk (Nat.not_lt_zero k)⟩
  · have hb : ∀ n ∈ zs, 0 ≤ n ∧ n < 256 := by
      intro n hn
      have := hw n hn
      simp [Lit.wf, IntKind.min, IntKind.max, IntKind.signed, IntKind.bits] at this
      omega
    refine ⟨zs.map Int.toNat, fun k hk => ?_⟩
    obtain ⟨b, off, spot⟩ := x
    have hc0 := hc k (by omega)
    have hspot : spot = none := by
      have hz := hc 0 (by omega)
      simpa [Addr.add] using World.cell?_spot hz
    subst hspot
    have e : (⟨b, off, none⟩ : Addr).add k = ⟨b, off + k, none⟩ := by unfold Addr.add; split <;> simp_all
    rw [e] at hc0
    have hz : k < zs.length := by omega
    have hv := hb zs[k] (List.getElem_mem hz)
    have e2 : zs.getD k 0 = (((zs.map Int.toNat).getD k 0 : Nat) : Int) := by
      simp [List.getD_eq_getElem?_getD, List.getElem?_eq_getElem hz]
      omega
    refine ⟨b, off, rfl, World.block_lt_of_cell? w _ hc0, by rw [hc0, e2], ?_⟩
    simp [List.getD_eq_getElem?_getD, List.getElem?_eq_getElem hz]
    omega
theorem bn_one (c : UInt8) : bn ⟨#[c]⟩ = [c.toNat] := rfl
theorem rem_facts (x N : Nat) : ((x : Int).tmod (N : Int)) = ((x % N : Nat) : Int) ∧ ((x : Int) % (N : Int)) = ((x % N : Nat) : Int) ∧ ((x : Int).tdiv (N : Int)) = ((x / N : Nat) : Int) ∧ ((x : Int) / (N : Int)) = ((x / N : Nat) : Int) :=
  ⟨rfl, rfl, rfl, rfl⟩

end Go.Proofs.Ytnkjppclhhjdmaa
