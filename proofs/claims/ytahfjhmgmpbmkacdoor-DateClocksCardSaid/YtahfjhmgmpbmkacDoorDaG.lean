/-
  Contracts at this translation: Format at no day number; Format's text; the reference's Parse.
-/
import Derived.Test.YtahfjhmgmpbmkacDoorDaF
import Derived.Test.YtahfjhmgmpbmkacDoorRefTo
import Derived.Test.YtahfjhmgmpbmkacDoorDateFromCivilWalk
namespace Go.Proofs.YtahfjhmgmpbmkacDoor
open Go.RowKit
set_option linter.unusedVariables false

theorem fm_no (n : Int) (w : World) (h : n < 0 ∨ 73048 < n) : Calls Tryd.prog 35 #[.int .i64 n] w fun e w' => e = .returned (.tuple #[.string ByteArray.empty, .int .i64 2]) ∧ Below w.heap.size w w' := by
  have tc := fun w => hide (tc_no n w h)
  clear h
  go_enter Tryd.func35, Tryd.ntmps35
  go_wp2_with fail
  refine (tc _).out.mono ?_
  rintro e w1 ⟨rfl, hb⟩
  have HB := fun o => hide (hb.alloc hb.size o)
  clear hb
  go_wp2_with fail
  go_ret2
  exact ⟨rfl, (HB _).out⟩
/-- The text of a day, by its date. -/
theorem fm_txt (n y : Int) (k : Nat) (w : World) (T : Tabs w) (h : InMonth n y k) :
    Calls Tryd.prog 35 #[.int .i64 n] w fun e w' => e = .returned (.tuple #[.string ⟨⟨txt y ((k : Int) + 1) (n - NY y - cum y k + 1)⟩⟩, .int .i64 0]) ∧ Below w.heap.size w w' := by
  have := fm_in n y k w T h
  rwa [fmtS_txt _ _ _ (by have := h.y1; omega) (by have := h.y2; omega)] at this

theorem nv_extract (s : ByteArray) (a b k : Nat) (hb : b ≤ s.size) (hk : k ≤ b - a) : nv (s.extract a b) 0 k = nv s a k := by
  induction k with
  | zero => rfl
  | succ k ih =>
    simp only [nv]
    rw [ih (by omega), Nat.zero_add, gB_extract s a b k hb (by omega)]
theorem rnum_at (s : ByteArray) (a b k : Nat) (w : World) (hb : b ≤ s.size) (hk : b = a + k) (h4 : k ≤ 4) (hd : ∀ j, j < k → 48 ≤ gB s (a + j) ∧ gB s (a + j) ≤ 57) :
    Calls Tryd.prog 54 #[.string (s.extract a b)] w fun e w' => e = .returned (.int .i64 (nv s a k)) ∧ w = w' := by
  have := rnum_any (s.extract a b) k w (by rw [ByteArray.size_extract]; omega) h4 (fun j hj => by rw [Nat.zero_add, gB_extract s a b j hb (by omega)]; exact hd j hj)
  rwa [nv_extract s a b k hb (by omega)] at this
theorem rpa_no (s : ByteArray) (w : World) (h : ¬ HasForm s dform) (hm : s.size ≤ maxLen) :
    Calls Tryd.prog 38 #[.string s] w fun e w' => e = .returned (.tuple #[.int .i64 0, .int .i64 3]) ∧ Below w.heap.size w w' := by
  have hf := fun w => hide (rsh_no s dform w (by decide) h hm)
  clear h hm
  go_enter Tryd.func38, Tryd.ntmps38
  go_wp2_with fail
  refine (hf _).out.mono ?_
  rintro e w' ⟨rfl, n, rfl⟩
  have HB := hide (below_drewN (Below.refl w.heap.size w) n)
  go_wp2_with fail
  go_ret2
  exact ⟨rfl, HB.out⟩
end Go.Proofs.YtahfjhmgmpbmkacDoor
