/-
  The walk of DateMonthsBetween.
-/
import Derived.Test.YtahfjhmgmpbmkacDoorRefMo
namespace Go.Proofs.YtahfjhmgmpbmkacDoor
open Go.RowKit
set_option linter.unusedVariables false

theorem mu_no1 (n1 n2 : Int) (w : World) (h : n1 < 0 ∨ 73048 < n1) :
    Calls Tryd.prog 47 #[.int .i64 n1, .int .i64 n2] w fun e w' => e = .returned (.tuple #[.int .i64 0, .int .i64 2]) ∧ Below w.heap.size w w' := by
  have tc := fun W => hide (tc_no n1 W h)
  clear h
  go_enter Tryd.func47, Tryd.ntmps47
  go_wp2_with fail
  refine (tc _).out.mono ?_
  rintro e w1 ⟨rfl, hb⟩
  have HG := hide hb
  have HA := fun o => hide (hb.alloc hb.size o)
  clear hb
  go_wp2_with fail
  go_ret2
  first | exact ⟨rfl, HG.out⟩ | exact ⟨rfl, (HA _).out⟩
theorem mu_no2 (n1 n2 y : Int) (k : Nat) (w : World) (T : Tabs w) (h1 : InMonth n1 y k) (h : n2 < 0 ∨ 73048 < n2) :
    Calls Tryd.prog 47 #[.int .i64 n1, .int .i64 n2] w fun e w' => e = .returned (.tuple #[.int .i64 0, .int .i64 2]) ∧ Below w.heap.size w w' := by
  have t1 := hide (tc_in n1 y k w T h1)
  have tc := fun W => hide (tc_no n2 W h)
  clear h h1
  generalize n1 - NY y - cum y k + 1 = D at *
  go_enter Tryd.func47, Tryd.ntmps47
  go_wp2_with fail
  refine t1.out.mono ?_
  rintro e w1 ⟨rfl, hb⟩
  have HG := hide hb
  have HA := fun o => hide (hb.alloc hb.size o)
  clear hb
  go_wp2_with fail
  refine (tc _).out.mono ?_
  rintro e w2 ⟨rfl, hb⟩
  have HG2 : Hid (Below w.heap.size w w2) := hide (by first | exact HG.out.trans (hb.mono HG.out.size) | exact (HA _).out.trans (hb.mono (HA _).out.size))
  have HA2 := fun o => hide (HG2.out.alloc HG2.out.size o)
  clear hb
  go_wp2_with fail
  go_ret2
  first | exact ⟨rfl, HG2.out⟩ | exact ⟨rfl, (HA2 _).out⟩

/-- MonthsBetween where one of the days is no day number. -/
theorem mb_no (n1 n2 : Int) (w : World) (T : Tabs w) (h : ¬ (0 ≤ n1 ∧ n1 ≤ 73048) ∨ ¬ (0 ≤ n2 ∧ n2 ≤ 73048)) :
    Calls Tryd.prog 31 #[.int .i64 n1, .int .i64 n2] w fun e w' => e = .returned (.tuple #[.int .i64 0, .int .i64 2]) ∧ Below w.heap.size w w' := by
  have mu : ∀ a b : Int, (a = n1 ∧ b = n2 ∨ a = n2 ∧ b = n1) → Hid (Calls Tryd.prog 47 #[.int .i64 a, .int .i64 b] w fun e w' => e = .returned (.tuple #[.int .i64 0, .int .i64 2]) ∧ Below w.heap.size w w') := fun a b hab => by
    by_cases ha : 0 ≤ a ∧ a ≤ 73048
    · obtain ⟨y, k, i⟩ := inMonth_ex a ha.1 ha.2
      exact hide (mu_no2 a b y k w T i (by rcases hab with ⟨rfl, rfl⟩ | ⟨rfl, rfl⟩ <;> omega))
    · exact hide (mu_no1 a b w (by omega))
  have m1 := mu n1 n2 (.inl ⟨rfl, rfl⟩)
  have m2 := mu n2 n1 (.inr ⟨rfl, rfl⟩)
  clear mu h
  by_cases hle : n1 ≤ n2
  · go_enter Tryd.func31, Tryd.ntmps31
    go_wp2_with fail
    refine m1.out.mono ?_
    rintro e w1 ⟨rfl, hb⟩
    have HB := hide hb
    clear hb
    go_wp2_with fail
    go_ret2
    exact ⟨rfl, HB.out⟩
  · go_enter Tryd.func31, Tryd.ntmps31
    go_wp2_with fail
    refine m2.out.mono ?_
    rintro e w1 ⟨rfl, hb⟩
    have HB := hide hb
    clear hb
    go_wp2_with fail
    go_ret2
    exact ⟨rfl, HB.out⟩

/-- MonthsBetween backwards. -/
theorem mb_rev (n1 n2 : Int) (V : Nat) (w : World) (hV : V ≤ 3000) (h : n2 < n1)
    (mu : Calls Tryd.prog 47 #[.int .i64 n2, .int .i64 n1] w fun e w' => e = .returned (.tuple #[.int .i64 (V : Int), .int .i64 0]) ∧ Below w.heap.size w w') :
    Calls Tryd.prog 31 #[.int .i64 n1, .int .i64 n2] w fun e w' => e = .returned (.tuple #[.int .i64 (-(V : Int)), .int .i64 0]) ∧ Below w.heap.size w w' := by
  have M := hide mu
  clear mu
  have hn : ¬ n1 ≤ n2 := by omega
  go_enter Tryd.func31, Tryd.ntmps31
  go_wp2_with fail
  refine M.out.mono ?_
  rintro e w1 ⟨rfl, hb⟩
  have HB := hide hb
  clear hb
  go_wp2_with fail
  go_ret2
  exact ⟨rfl, HB.out⟩

theorem rmo_gt (n1 n2 : Int) (V : Nat) (w : World) (hV : V ≤ 3000) (h : n2 < n1)
    (mo : Calls Tryd.prog 32 #[.int .i64 n2, .int .i64 n1] w fun e w' => e = .returned (.int .i64 (V : Int)) ∧ Below w.heap.size w w') :
    Calls Tryd.prog 32 #[.int .i64 n1, .int .i64 n2] w fun e w' => e = .returned (.int .i64 (-(V : Int))) ∧ Below w.heap.size w w' := by
  have M := hide mo
  clear mo
  go_enter Tryd.func32, Tryd.ntmps32
  go_wp2_with fail
  refine M.out.mono ?_
  rintro e w1 ⟨rfl, hb⟩
  have HB := hide hb
  clear hb
  go_wp2_with fail
  go_ret
  exact ⟨by simp, HB.out⟩

theorem three_le (f g : Int) (hf : 0 ≤ f ∧ f ≤ 73048) (hg : 0 ≤ g ∧ g ≤ 73048) (h : f ≤ g) : ∃ V : Nat, V ≤ 3000 ∧ (f = g → V = 0) ∧ ∀ W, Tabs W →
    (Calls Tryd.prog 47 #[.int .i64 f, .int .i64 g] W fun e w' => e = .returned (.tuple #[.int .i64 (V : Int), .int .i64 0]) ∧ Below W.heap.size W w') ∧
    (Calls Tryd.prog 31 #[.int .i64 f, .int .i64 g] W fun e w' => e = .returned (.tuple #[.int .i64 (V : Int), .int .i64 0]) ∧ Below W.heap.size W w') ∧
    (Calls Tryd.prog 32 #[.int .i64 f, .int .i64 g] W fun e w' => e = .returned (.int .i64 (V : Int)) ∧ Below W.heap.size W w') := by
  obtain ⟨y1, k1, h1⟩ := inMonth_ex f hf.1 hf.2
  obtain ⟨y2, k2, h2⟩ := inMonth_ex g hg.1 hg.2
  obtain ⟨hle, V, e, b, lo, hi, z⟩ := mo_facts f g y1 y2 k1 k2 h1 h2 h
  have a := (mn_bd y1 k1 h1.y1 h1.y2 h1.k12).1
  refine ⟨V, by omega, z, fun W T => ⟨?_, ?_, rmo_le f g y1 y2 k1 k2 W h1 h2 h V b lo hi⟩⟩
  · have := mu_in f g y1 y2 k1 k2 W T h1 h2 hle
    rwa [e] at this
  · have := mb_in f g y1 y2 k1 k2 W T h1 h2 hle h
    rwa [e] at this

theorem three_any (f g : Int) (hf : 0 ≤ f ∧ f ≤ 73048) (hg : 0 ≤ g ∧ g ≤ 73048) : ∃ P : Int, -3000 ≤ P ∧ P ≤ 3000 ∧ ∀ W, Tabs W →
    (Calls Tryd.prog 31 #[.int .i64 f, .int .i64 g] W fun e w' => e = .returned (.tuple #[.int .i64 P, .int .i64 0]) ∧ Below W.heap.size W w') ∧
    (Calls Tryd.prog 31 #[.int .i64 g, .int .i64 f] W fun e w' => e = .returned (.tuple #[.int .i64 (-P), .int .i64 0]) ∧ Below W.heap.size W w') ∧
    (Calls Tryd.prog 32 #[.int .i64 f, .int .i64 g] W fun e w' => e = .returned (.int .i64 P) ∧ Below W.heap.size W w') := by
  rcases Int.lt_trichotomy f g with h | h | h
  · obtain ⟨V, hV, _, c⟩ := three_le f g hf hg (by omega)
    exact ⟨V, by omega, by omega, fun W T => ⟨(c W T).2.1, mb_rev g f V W hV h (c W T).1, (c W T).2.2⟩⟩
  · subst h
    obtain ⟨V, hV, z, c⟩ := three_le f f hf hf (by omega)
    obtain rfl := z rfl
    exact ⟨0, by omega, by omega, fun W T => ⟨(c W T).2.1, (c W T).2.1, (c W T).2.2⟩⟩
  · obtain ⟨V, hV, _, c⟩ := three_le g f hg hf (by omega)
    refine ⟨-(V : Int), by omega, by omega, fun W T => ⟨mb_rev f g V W hV h (c W T).1, ?_, rmo_gt f g V W hV h (c W T).2.2⟩⟩
    rw [Int.neg_neg]
    exact (c W T).2.1

set_option maxRecDepth 20000 in
theorem dateMonthsBetween_walk (a0 : Int) (a1 : Int) (w : World) (w0 : (Lit.int .i64 a0).wf = true) (w1 : (Lit.int .i64 a1).wf = true) (hL : laidMetH Tryd.prog laid w) :
    Calls Tryd.prog 7 #[.int .i64 a0, .int .i64 a1] w fun e w' => e = .returned (.bool true) ∧ Below w.heap.size w w' := by
  have T := tabs_of hL
  have kn := hide (known_any w T)
  have TT := hide T
  have dv := fun w => hide (day_any a0 w)
  have dv' := fun w => hide (day_any a1 w)
  clear T hL w0 w1
  generalize dayV a0 = f at *
  generalize dayV a1 = g at *
  have rd := fun W => hide (rday_any f W)
  have rd' := fun W => hide (rday_any g W)
  by_cases hf : 0 ≤ f ∧ f ≤ 73048
  · have db := dayB_yes hf.1 hf.2
    rw [db] at rd
    by_cases hg : 0 ≤ g ∧ g ≤ 73048
    · have db' := dayB_yes hg.1 hg.2
      rw [db'] at rd'
      obtain ⟨P, p1, p2, c⟩ := three_any f g hf hg
      have m1 := fun W T => hide (c W T).1
      have m2 := fun W T => hide (c W T).2.1
      have mo := fun W T => hide (c W T).2.2
      clear c hf hg db db'
      go_enter Tryd.func7, Tryd.ntmps7
      go_wp2_with fail
      refine kn.out.mono ?_
      rintro e w1 ⟨rfl, hb⟩
      have HB1 := hide hb
      clear hb
      go_wp2_with fail
      refine (dv _).out.mono ?_
      rintro e w2 ⟨rfl, rfl⟩
      go_wp2_with fail
      refine (dv' _).out.mono ?_
      rintro e w2 ⟨rfl, rfl⟩
      go_wp2_with fail
      refine (m1 _ (TT.out.keep HB1.out)).out.mono ?_
      rintro e w2 ⟨rfl, hb⟩
      have HB2 := hide (HB1.out.trans (hb.mono HB1.out.size))
      clear hb
      go_wp2_with fail
      refine (m2 _ (TT.out.keep HB2.out)).out.mono ?_
      rintro e w3 ⟨rfl, hb⟩
      have HB3 := hide (HB2.out.trans (hb.mono HB2.out.size))
      clear hb
      go_wp2_with fail
      refine (rd _).out.mono ?_
      rintro e w4 ⟨rfl, rfl⟩
      go_wp2_with fail
      refine (rd' _).out.mono ?_
      rintro e w4 ⟨rfl, rfl⟩
      go_wp2_with fail
      refine (mo _ (TT.out.keep HB3.out)).out.mono ?_
      rintro e w5 ⟨rfl, hb⟩
      have HB4 := hide (HB3.out.trans (hb.mono HB3.out.size))
      clear hb
      go_wp2_with fail
      go_ret
      exact ⟨rfl, HB4.out⟩
    · have db' := dayB_no (n := g) (by omega)
      rw [db'] at rd'
      have m1 := fun W T => hide (mb_no f g W T (.inr hg))
      have m2 := fun W T => hide (mb_no g f W T (.inl hg))
      clear hf hg db db'
      go_enter Tryd.func7, Tryd.ntmps7
      go_wp2_with fail
      refine kn.out.mono ?_
      rintro e w1 ⟨rfl, hb⟩
      have HB1 := hide hb
      clear hb
      go_wp2_with fail
      refine (dv _).out.mono ?_
      rintro e w2 ⟨rfl, rfl⟩
      go_wp2_with fail
      refine (dv' _).out.mono ?_
      rintro e w2 ⟨rfl, rfl⟩
      go_wp2_with fail
      refine (m1 _ (TT.out.keep HB1.out)).out.mono ?_
      rintro e w2 ⟨rfl, hb⟩
      have HB2 := hide (HB1.out.trans (hb.mono HB1.out.size))
      clear hb
      go_wp2_with fail
      refine (m2 _ (TT.out.keep HB2.out)).out.mono ?_
      rintro e w3 ⟨rfl, hb⟩
      have HB3 := hide (HB2.out.trans (hb.mono HB2.out.size))
      clear hb
      go_wp2_with fail
      refine (rd _).out.mono ?_
      rintro e w4 ⟨rfl, rfl⟩
      go_wp2_with fail
      refine (rd' _).out.mono ?_
      rintro e w4 ⟨rfl, rfl⟩
      go_wp2_with fail
      go_ret
      exact ⟨rfl, HB3.out⟩
  · have db := dayB_no (n := f) (by omega)
    rw [db] at rd
    have m1 := fun W T => hide (mb_no f g W T (.inl hf))
    have m2 := fun W T => hide (mb_no g f W T (.inr hf))
    clear hf db
    go_enter Tryd.func7, Tryd.ntmps7
    go_wp2_with fail
    refine kn.out.mono ?_
    rintro e w1 ⟨rfl, hb⟩
    have HB1 := hide hb
    clear hb
    go_wp2_with fail
    refine (dv _).out.mono ?_
    rintro e w2 ⟨rfl, rfl⟩
    go_wp2_with fail
    refine (dv' _).out.mono ?_
    rintro e w2 ⟨rfl, rfl⟩
    go_wp2_with fail
    refine (m1 _ (TT.out.keep HB1.out)).out.mono ?_
    rintro e w2 ⟨rfl, hb⟩
    have HB2 := hide (HB1.out.trans (hb.mono HB1.out.size))
    clear hb
    go_wp2_with fail
    refine (m2 _ (TT.out.keep HB2.out)).out.mono ?_
    rintro e w3 ⟨rfl, hb⟩
    have HB3 := hide (HB2.out.trans (hb.mono HB2.out.size))
    clear hb
    go_wp2_with fail
    refine (rd _).out.mono ?_
    rintro e w4 ⟨rfl, rfl⟩
    go_wp2_with fail
    go_ret
    exact ⟨rfl, HB3.out⟩
end Go.Proofs.YtahfjhmgmpbmkacDoor
