/-
  A token as Go holds it; the closure of Equal.
-/
import Derived.Test.YtnkjppclhhjdmaaRows
import Derived.Test.YtnkjppclhhjdmaaLJ
import Derived.Test.YtnkjppclhhjdmaaLexerOffsetsWalk
import Derived.WalkKit
import Derived.WalkSpells
import Derived.StillTactics
import Derived.Laws.Pointers
import Derived.Laws.Strings
import Derived.Laws.Strings2
import Derived.Laws.BytesArg
import Derived.LoopTactic
import Derived.Outline
import Derived.Below
import Derived.Laws.Externs
import Derived.Deep.QuietTactic
import Derived.Deep.RegionWith
import Derived.BigQuiet
import Derived.RegionTactic
import Derived.ChangeAlike
import Derived.OwnWalk
import Derived.Laws.OwnMore
import Derived.Laws.Rows
import Derived.Laws.EntriesVeiled
import Derived.Lib.MinMax
import Derived.Lib.Strings
namespace Go.Proofs.Ytnkjppclhhjdmaa
open Go.RowKit
set_option linter.unusedVariables false
set_option linter.unusedSimpArgs false
set_option linter.unnecessarySimpa false
set_option maxHeartbeats 4000000

/-- A token as Go holds it. -/
structure Rw where
  k : Int
  t : ByteArray
  p : Int
/-- The slice value v reads as the tokens L. -/
def RdR (w : World) (v : Value) (L : List Rw) : Prop :=
  ∃ (a : Option Addr) (c : Nat), v = .slice a L.length c ∧ ∀ i r, L[i]? = some r → ∃ g o, a = some ⟨g, o, none⟩ ∧ g < w.heap.size ∧
    w.cell? ⟨g, o + i * 3, none⟩ = some (.int .i64 r.k) ∧ w.cell? ⟨g, o + i * 3 + 1, none⟩ = some (.string r.t) ∧ w.cell? ⟨g, o + i * 3 + 2, none⟩ = some (.int .i64 r.p)
theorem RdR.keep {w w' : World} {v : Value} {L : List Rw} (h : RdR w v L) (hb : Below w.heap.size w w') : RdR w' v L := by
  obtain ⟨a, c, hv, hc⟩ := h
  refine ⟨a, c, hv, fun i r hr => ?_⟩
  obtain ⟨g, o, ha, hg, h0, h1, h2⟩ := hc i r hr
  exact ⟨g, o, ha, by have := hb.size; omega, (hb.cell (p := ⟨g, _, none⟩) hg).trans h0, (hb.cell (p := ⟨g, _, none⟩) hg).trans h1, (hb.cell (p := ⟨g, _, none⟩) hg).trans h2⟩
def rwT (t : Lx.Tk) : Rw := ⟨(t.kind : Int), bs t.text, (t.pos : Int)⟩
theorem OwT.rd {w : World} {base : Nat} {v : Value} {L : List Lx.Tk} (h : OwT w base v L) : RdR w v (L.map rwT) := by
  obtain ⟨a, c, hv, hc⟩ := h.rows
  refine ⟨a, c, by rw [List.length_map]; exact hv, fun i r hr => ?_⟩
  rw [List.getElem?_map] at hr
  have hi : i < L.length := by
    rcases Nat.lt_or_ge i L.length with h | h
    · exact h
    · rw [List.getElem?_eq_none h] at hr; cases hr
  rw [List.getElem?_eq_getElem hi] at hr
  obtain rfl := Option.some.inj hr
  obtain ⟨g, ha, hg, h0, h1, h2⟩ := hc i hi
  have e : L.getD i ⟨0, [], 0⟩ = L[i] := by rw [List.getD_eq_getElem?_getD, List.getElem?_eq_getElem hi]; rfl
  rw [e] at h0 h1 h2
  exact ⟨g, 0, ha, hg, by rw [Nat.zero_add]; exact h0, by rw [Nat.zero_add]; exact h1, by rw [Nat.zero_add]; exact h2⟩
/-- Kind and text. -/
def kt (r : Rw) : Int × ByteArray := (r.k, r.t)

theorem eqc_any (k1 k2 p1 p2 : Int) (t1 t2 : ByteArray) (w : World) : Calls Try.prog 39 #[.agg #[.int .i64 k1, .string t1, .int .i64 p1], .agg #[.int .i64 k2, .string t2, .int .i64 p2]] w fun e w' => e = .returned (.bool (decide ((k1, t1) = (k2, t2)))) ∧ Below w.heap.size w w' := by
  by_cases h1 : k1 = k2
  · subst h1
    by_cases h2 : t1 = t2
    · subst h2
      rw [decide_eq_true rfl]
      go_enter Try.func39, Try.ntmps39
      go_wp2_with fail
      go_ret
      exact ⟨rfl, ((Below.refl _ _).alloc (Nat.le_refl _) _).alloc (by simp) _⟩
    · have hn := toList_ne h2
      rw [decide_eq_false (by rintro h; exact h2 (Prod.mk.inj h).2)]
      clear h2
      go_enter Try.func39, Try.ntmps39
      go_wp2_with fail
      go_ret
      exact ⟨rfl, ((Below.refl _ _).alloc (Nat.le_refl _) _).alloc (by simp) _⟩
  · have hn : (k1 == k2) = false := by simpa using h1
    rw [decide_eq_false (by rintro h; exact h1 (Prod.mk.inj h).1)]
    clear h1
    go_enter Try.func39, Try.ntmps39
    go_wp2_with fail
    go_ret
    exact ⟨rfl, ((Below.refl _ _).alloc (Nat.le_refl _) _).alloc (by simp) _⟩

end Go.Proofs.Ytnkjppclhhjdmaa
