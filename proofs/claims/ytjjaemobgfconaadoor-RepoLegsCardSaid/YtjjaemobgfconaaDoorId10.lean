/-
  What Check answers; the table of the shapes; checkLength at the shapes.
-/
import Derived.Test.YtjjaemobgfconaaDoorId9
import Derived.Lib.LaidTab
namespace Go.Proofs.YtjjaemobgfconaaDoor
open Go.RowKit
set_option linter.unusedVariables false

/-- The first byte that is not permitted. -/
def firstBad (kind : Int) (s : ByteArray) (n : Nat) : Option Nat := (List.range n).find? fun i => !may kind i (gB s i)
theorem fb_some {kind : Int} {s : ByteArray} {n J : Nat} (h : firstBad kind s n = some J) : J < n ∧ may kind J (gB s J) = false ∧ ∀ j : Nat, j < J → may kind j (gB s j) = true := by
  unfold firstBad at h
  rw [List.find?_range_eq_some] at h
  obtain ⟨a, b, c⟩ := h
  exact ⟨List.mem_range.1 b, by simpa using a, fun j hj => by simpa using c j hj⟩
theorem fb_none {kind : Int} {s : ByteArray} {n : Nat} (h : firstBad kind s n = none) : ∀ j : Nat, j < n → may kind j (gB s j) = true := by
  unfold firstBad at h
  rw [List.find?_range_eq_none] at h
  exact fun j hj => by simpa using h j hj
/-- What is said of the characters and the length: the offset, the error. -/
def pre (kind lo hi : Int) (s : ByteArray) : Int × Int :=
  match firstBad kind s (min s.size hi.toNat) with
  | some J => ((J : Int), 3)
  | none => (clV s.size lo hi, clE s.size lo hi)
/-- The string of the check digits of an LEI is not the one that belongs there. -/
def tailOff (s : ByteArray) : Prop := s.extract 18 20 ≠ dd (cd (bl (s.extract 0 18)))
instance (s : ByteArray) : Decidable (tailOff s) := inferInstanceAs (Decidable (_ ≠ _))
/-- What Check answers: the offset, the error. -/
def ckR (kind : Int) (s : ByteArray) : Int × Int :=
  if kind < 0 ∨ 3 < kind then (0, 11)
  else if (pre kind (loK kind) (hiK kind) s).2 ≠ 0 then pre kind (loK kind) (hiK kind) s
  else if kind = 0 ∧ gB s 11 ≠ 48 + luhn (bl (s.extract 0 11)) then (11, 18)
  else if kind = 3 ∧ tailOff s then (18, 18)
  else (0, 0)

theorem cl_pre (kind : Int) (s : ByteArray) (lo hi a b c d e f g : Int) (w : World) (h : Fits b c d e f g) (h0 : 0 ≤ hi) (h3 : hi ≤ 100) (hm : s.size ≤ maxLen)
    (hmay : ∀ j : Nat, (j : Int) < hi → inC (clA b c d e f g (j : Int)) (gB s j) = may kind j (gB s j)) :
    Calls Tryd.prog 60 #[.string s, .int .i64 lo, .int .i64 hi, .func (.func 61) #[.agg #[.int .i64 a, .int .i64 b, .int .i64 c, .int .i64 d, .int .i64 e, .int .i64 f, .int .i64 g]] #[]] w
      fun e' w' => e' = .returned (.tuple #[.int .i64 (pre kind lo hi s).1, .int .i64 (pre kind lo hi s).2]) ∧ Below w.heap.size w w' := by
  unfold pre
  cases hf : firstBad kind s (min s.size hi.toNat) with
  | some J =>
    obtain ⟨h1, h2, h4⟩ := fb_some hf
    exact cl_bad s lo hi a b c d e f g J w h (by omega) (by omega) h3 hm (fun j hj => by rw [hmay j (by omega)]; exact h4 j hj) (by rw [hmay J (by omega)]; exact h2)
  | none =>
    have h4 := fb_none hf
    exact cl_all s lo hi a b c d e f g (min s.size hi.toNat) w h (by omega) (by omega) (by omega) h3 hm (fun j hj => by rw [hmay j (by omega)]; exact h4 j hj)

theorem inC0 (c : Int) : inC 0 c = isL c := by simp [inC]
theorem inC1 (c : Int) : inC 1 c = isD c := by simp [inC]
theorem inC2 (c : Int) : inC 2 c = (isL c || isD c) := by simp [inC]
theorem inC3 (c : Int) : inC 3 c = (isL c || isD c || decide (c = 45)) := by simp [inC]
theorem may0 (s : ByteArray) (j : Nat) (h : (j : Int) < 12) : inC (clA 12 2 1 0 2 1 (j : Int)) (gB s j) = may 0 j (gB s j) := by
  unfold clA may
  by_cases h1 : (j : Int) < 2
  · rw [if_pos h1, if_pos rfl, if_pos h1, inC0]
  · by_cases h2 : (j : Int) < 11
    · rw [if_neg h1, if_neg (show ¬ (12 : Int) - 1 ≤ j by omega), if_pos rfl, if_neg h1, if_pos h2, inC2]
    · rw [if_neg h1, if_pos (show (12 : Int) - 1 ≤ j by omega), if_pos rfl, if_neg h1, if_neg h2, if_pos (show (j : Int) = 11 by omega), inC1]
theorem may1 (s : ByteArray) (j : Nat) : inC (clA 8 1 0 0 2 2 (j : Int)) (gB s j) = may 1 j (gB s j) := by
  unfold clA may
  rw [if_neg (show ¬ (1 : Int) = 0 by decide), if_pos (show (1 : Int) = 1 from rfl)]
  by_cases h1 : (j : Int) < 1
  · rw [if_pos h1, inC0, decide_eq_false (show ¬ (0 : Int) < j by omega), Bool.false_and, Bool.or_false]
  · have h3 : (if (8 : Int) - 0 ≤ j then (2 : Int) else 2) = 2 := by split <;> rfl
    rw [if_neg h1, h3, inC2, decide_eq_true (show (0 : Int) < j by omega), Bool.true_and]
theorem may2 (s : ByteArray) (j : Nat) : inC (clA 16 0 0 3 3 3 (j : Int)) (gB s j) = may 2 j (gB s j) := by
  unfold clA may
  have h3 : (if (16 : Int) - 0 ≤ j then (3 : Int) else 3) = 3 := by split <;> rfl
  rw [if_neg (show ¬ (j : Int) < 0 by omega), h3, inC3, if_neg (show ¬ (2 : Int) = 0 by decide), if_neg (show ¬ (2 : Int) = 1 by decide), if_pos rfl]
theorem may3 (s : ByteArray) (j : Nat) : inC (clA 20 0 2 2 2 1 (j : Int)) (gB s j) = may 3 j (gB s j) := by
  unfold clA may
  rw [if_neg (show ¬ (j : Int) < 0 by omega), if_neg (show ¬ (3 : Int) = 0 by decide), if_neg (show ¬ (3 : Int) = 1 by decide), if_neg (show ¬ (3 : Int) = 2 by decide)]
  by_cases h2 : (j : Int) < 18
  · rw [if_neg (show ¬ (20 : Int) - 2 ≤ j by omega), inC2, decide_eq_true h2, Bool.true_and, Bool.or_comm]
  · rw [if_pos (show (20 : Int) - 2 ≤ j by omega), inC1, decide_eq_false h2, Bool.false_and, Bool.or_false]
theorem fits0 : Fits 12 2 1 0 2 1 := ⟨by decide, by decide, by decide, by decide, by decide, by decide, by decide, by decide, by decide, by decide⟩
theorem fits1 : Fits 8 1 0 0 2 2 := ⟨by decide, by decide, by decide, by decide, by decide, by decide, by decide, by decide, by decide, by decide⟩
theorem fits2 : Fits 16 0 0 3 3 3 := ⟨by decide, by decide, by decide, by decide, by decide, by decide, by decide, by decide, by decide, by decide⟩
theorem fits3 : Fits 20 0 2 2 2 1 := ⟨by decide, by decide, by decide, by decide, by decide, by decide, by decide, by decide, by decide, by decide⟩

/-- The table of the shapes, cell for cell. -/
def shpTab : List Int := [12, 12, 2, 1, 0, 2, 1, 4, 8, 1, 0, 0, 2, 2, 1, 16, 0, 0, 3, 3, 3, 20, 20, 0, 2, 2, 2, 1]
def Shp (w : World) : Prop := Lib.TabIs Tryd.prog w "giro/ident.shapes" .i64 shpTab
theorem gShp : Tryd.prog.globalNamed "giro/ident.shapes" = some 2 := by kernel_rfl
theorem Shp.keep {w w' : World} (h : Shp w) (hb : Below w.heap.size w w') : Shp w' := Go.Joins.tab_stays gShp h hb (Nat.le_refl _)
theorem Shp.cell {w : World} (h : Shp w) (k : Nat) (hk : k < 28) : w.cell? ⟨2, k, none⟩ = some (.int .i64 (shpTab.getD k 0)) := by
  have := Lib.TabIs.cell h gShp k hk
  simpa using this
end Go.Proofs.YtjjaemobgfconaaDoor
