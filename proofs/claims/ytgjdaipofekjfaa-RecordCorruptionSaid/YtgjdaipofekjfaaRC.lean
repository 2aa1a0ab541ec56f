/-
  What the walks of the statements are told of a slice of bytes that came in.
-/
import Derived.Test.YtgjdaipofekjfaaRB
import Derived.Lib.MinMax
namespace Go.Proofs.Ytgjdaipofekjfaa
open Go.RowKit
set_option linter.unusedVariables false
set_option linter.unusedSimpArgs false
set_option linter.unnecessarySimpa false

/-- A slice of integers that came in: it is nil, or its cells hold the numbers zs, of which the first len are its elements. -/
def IsRow (k : IntKind) (w : World) (a : Option Addr) (len cap : Nat) (zs : List Int) : Prop :=
  (a = none ∧ len = 0 ∧ cap = 0 ∧ zs = []) ∨
  ∃ x, a = some x ∧ len ≤ cap ∧ cap ≤ maxLen ∧ zs.length = cap ∧ (∀ i, i < zs.length → w.cell? (x.add i) = some (.int k (zs.getD i 0))) ∧ ∀ n ∈ zs, (Lit.int k n).wf = true

theorem IsRow.rd {w : World} {a : Option Addr} {len cap : Nat} {zs : List Int} (h : IsRow .u8 w a len cap zs) : ∃ l : List Nat, l.length = len ∧ RdB w (.slice a len cap) l := by
  rcases h with ⟨rfl, rfl, rfl, rfl⟩ | ⟨x, rfl, h1, h2, h3, hc, hw⟩
  · exact ⟨[], rfl, RdB.nil w⟩
  · have hl : ((zs.take len).map Int.toNat).length = len := by simp; omega
    have hb : ∀ n ∈ zs, 0 ≤ n ∧ n < 256 := by
      intro n hn
      have := hw n hn
      simp [Lit.wf, IntKind.min, IntKind.max, IntKind.signed, IntKind.bits] at this
      omega
    refine ⟨(zs.take len).map Int.toNat, hl, ?_, ?_⟩
    · intro c hc
      simp only [List.mem_map] at hc
      obtain ⟨n, hn, rfl⟩ := hc
      have := hb n (List.mem_of_mem_take hn)
      omega
    · by_cases h0 : cap = 0
      · subst h0
        have : len = 0 := by omega
        subst this
        exact .inl ⟨_, rfl, by simp⟩
      · obtain ⟨b, off, spot⟩ := x
        have hc0 := hc 0 (by omega)
        have hspot : spot = none := by simpa [Addr.add] using World.cell?_spot hc0
        subst hspot
        refine .inr ⟨b, off, cap, by rw [hl], by rw [hl]; exact h1, h2, World.block_lt_of_cell? w _ hc0, fun k hk => ?_⟩
        rw [hl] at hk
        have h := hc k (by omega)
        have e : (⟨b, off, none⟩ : Addr).add k = ⟨b, off + k, none⟩ := by unfold Addr.add; split <;> simp_all
        rw [e] at h
        rw [h]
        congr 2
        have hz : k < zs.length := by omega
        have hv := hb zs[k] (List.getElem_mem hz)
        simp [List.getD_eq_getElem?_getD, List.getElem?_take, hk, List.getElem?_eq_getElem hz]
        omega

/-- The first n bytes, at most. -/
theorem RdB.cut {w : World} {a : Option Addr} {len cap : Nat} {l : List Nat} (h : RdB w (.slice a len cap) l) (hl : l.length = len) (m : Nat) :
    ∃ v n, n = min len m ∧ min (len : Int) (m : Int) = (n : Int) ∧ RdB w v (l.take n) ∧ (l.take n).length = n ∧ ∀ W, (Instr.sliceAt 22 (.slice a len cap) none (some (.int .i64 (n : Int))) none).run Try.prog W = .ok v W := by
  obtain ⟨v, h1, h2⟩ := run_part w _ l h 0 (min len m) (by omega) (by omega) none (some (.int .i64 ((min len m : Nat) : Int))) (.inl ⟨rfl, rfl⟩) (.inr rfl)
  exact ⟨v, min len m, rfl, by omega, by simpa using h1, by rw [List.length_take]; omega, h2⟩
theorem same_yes (v1 v2 : Value) (l : List Nat) (w : World) (h1 : RdB w v1 l) (h2 : RdB w v2 l) :
    Calls Try.prog 18 #[v1, v2] w fun e w' => e = .returned (.bool true) ∧ w = w' :=
  (same_any v1 v2 l l w h1 h2).mono fun _ _ ⟨a, b⟩ => ⟨by rw [a]; simp, b⟩
end Go.Proofs.Ytgjdaipofekjfaa
