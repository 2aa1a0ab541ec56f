/-
  The walk of the statement AmountAdd: amount.Add, Sub, Neg and Valid against the reference.
-/
import Derived.Test.YtahfjhmgmpbmkaaDoorAm7
namespace Go.Proofs.YtahfjhmgmpbmkaaDoor
open Go.RowKit

theorem refvalid_any (x : Int) (w : World) : Calls Tryd.prog 16 #[.int .i64 x] w fun e w' => e = .returned (.bool (okB x)) ∧ w = w' := by
  by_cases h1 : -1000000000000000 ≤ x
  · by_cases h2 : x ≤ 1000000000000000
    · rw [okB_yes ⟨h1, h2⟩]
      go_enter Tryd.func16, Tryd.ntmps16
      go_wp2
      go_ret
      exact ⟨rfl, rfl⟩
    · rw [okB_no (fun h => h2 h.2)]
      have hd : decide (x ≤ 1000000000000000) = false := by simp; omega
      go_enter Tryd.func16, Tryd.ntmps16
      go_wp2
      go_ret
      exact ⟨rfl, rfl⟩
  · rw [okB_no (fun h => h1 h.1)]
    go_enter Tryd.func16, Tryd.ntmps16
    go_wp2
    go_ret
    exact ⟨rfl, rfl⟩

/-- A result that is checked. -/
def chkV (x : Int) : Int := if okA x then x else 0
def chkE (x : Int) : Int := if okA x then 0 else 12
theorem refchecked_any (x : Int) (w : World) : Calls Tryd.prog 30 #[.int .i64 x] w fun e w' => e = .returned (.tuple #[.int .i64 (chkV x), .int .i64 (chkE x)]) ∧ w = w' := by
  have c := fun w => hide (refvalid_any x w)
  unfold chkV chkE
  by_cases h : okA x
  · rw [if_pos h, if_pos h]
    have hb := okB_yes h
    clear h
    go_enter Tryd.func30, Tryd.ntmps30
    go_wp2_with fail
    refine (c _).out.mono ?_
    rintro e w' ⟨rfl, rfl⟩
    go_wp2_with fail
    go_ret2
    exact ⟨rfl, rfl⟩
  · rw [if_neg h, if_neg h]
    have hb := okB_no h
    clear h
    go_enter Tryd.func30, Tryd.ntmps30
    go_wp2_with fail
    refine (c _).out.mono ?_
    rintro e w' ⟨rfl, rfl⟩
    go_wp2_with fail
    go_ret2
    exact ⟨rfl, rfl⟩

theorem sum2_mem {a b : Int} (ha : okA a) (hb : okA b) : ∀ x ∈ [a, b], okA x := by
  intro x hx; simp at hx; rcases hx with rfl | rfl <;> assumption
theorem tot2 (a b : Int) : tot [a, b] = a + b := by simp [tot]
theorem tot1 (a : Int) : tot [a] = a := by simp [tot]

theorem refadd_any (a b : Int) (w : World) : Calls Tryd.prog 14 #[.int .i64 a, .int .i64 b] w fun e w' => e = .returned (.tuple #[.int .i64 (sumV [a, b]), .int .i64 (sumE [a, b])]) ∧ w = w' := by
  have ca := fun w => hide (refvalid_any a w)
  have cb := fun w => hide (refvalid_any b w)
  by_cases ha : okA a
  · have ba := okB_yes ha
    by_cases hb : okA b
    · have bb := okB_yes hb
      have cc := fun w => hide (refchecked_any (a + b) w)
      have hs : sumE [a, b] = chkE (a + b) ∧ sumV [a, b] = chkV (a + b) := by
        unfold chkE chkV
        by_cases h : okA (a + b)
        · have he := sumE_ok [a, b] (sum2_mem ha hb) (by rw [tot2]; exact h)
          rw [if_pos h, if_pos h, he, sumV_ok _ he, tot2]; exact ⟨rfl, rfl⟩
        · have he := sumE_over [a, b] (sum2_mem ha hb) (by rw [tot2]; exact h)
          rw [if_neg h, if_neg h, he, sumV_ne _ (by omega)]; exact ⟨rfl, rfl⟩
      rw [hs.1, hs.2]
      obtain ⟨a1, a2⟩ := ha
      obtain ⟨b1, b2⟩ := hb
      clear hs
      go_enter Tryd.func14, Tryd.ntmps14
      go_wp2_with fail
      refine (ca _).out.mono ?_
      rintro e w' ⟨rfl, rfl⟩
      go_wp2_with fail
      refine (cb _).out.mono ?_
      rintro e w' ⟨rfl, rfl⟩
      go_wp2_with fail
      refine (cc _).out.mono ?_
      rintro e w' ⟨rfl, rfl⟩
      go_wp2_with fail
      go_ret2
      exact ⟨rfl, rfl⟩
    · have bb := okB_no hb
      have he := sumE_bad [a, b] b (by simp) hb
      rw [sumV_ne _ (by omega), he]
      clear ha hb he
      go_enter Tryd.func14, Tryd.ntmps14
      go_wp2_with fail
      refine (ca _).out.mono ?_
      rintro e w' ⟨rfl, rfl⟩
      go_wp2_with fail
      refine (cb _).out.mono ?_
      rintro e w' ⟨rfl, rfl⟩
      go_wp2_with fail
      go_ret2
      exact ⟨rfl, rfl⟩
  · have ba := okB_no ha
    have he := sumE_bad [a, b] a (by simp) ha
    rw [sumV_ne _ (by omega), he]
    clear ha he
    go_enter Tryd.func14, Tryd.ntmps14
    go_wp2_with fail
    refine (ca _).out.mono ?_
    rintro e w' ⟨rfl, rfl⟩
    go_wp2_with fail
    go_ret2
    exact ⟨rfl, rfl⟩

/-- amount.Sum over one or two numbers that were just laid. -/
theorem sum_new2 (a b : Int) (w : World) : Calls Tryd.prog 20 #[.slice (some ⟨w.heap.size, 0, none⟩) 2 2] (w.alloc (.cells #[.int .i64 a, .int .i64 b] 2)) fun e w' =>
    e = .returned (.tuple #[.int .i64 (sumV [a, b]), .int .i64 (sumE [a, b])]) ∧ w.alloc (.cells #[.int .i64 a, .int .i64 b] 2) = w' :=
  sum_any _ _ 2 2 [a, b] _ rfl (by decide) (fun j hj => by
    have : j = 0 ∨ j = 1 := by omega
    rcases this with rfl | rfl <;> simp [World.cell?_alloc_new])
theorem sum_new1 (a : Int) (w : World) : Calls Tryd.prog 20 #[.slice (some ⟨w.heap.size, 0, none⟩) 1 1] (w.alloc (.cells #[.int .i64 a] 2)) fun e w' =>
    e = .returned (.tuple #[.int .i64 (sumV [a]), .int .i64 (sumE [a])]) ∧ w.alloc (.cells #[.int .i64 a] 2) = w' :=
  sum_any _ _ 1 1 [a] _ rfl (by decide) (fun j hj => by
    obtain rfl : j = 0 := by omega
    simp [World.cell?_alloc_new])

theorem add_any (a b : Int) (w : World) : Calls Tryd.prog 13 #[.int .i64 a, .int .i64 b] w fun e w' => e = .returned (.tuple #[.int .i64 (sumV [a, b]), .int .i64 (sumE [a, b])]) ∧ Below w.heap.size w w' := by
  have c := hide (sum_new2 a b w)
  go_enter Tryd.func13, Tryd.ntmps13
  go_wp2_with fail
  refine c.out.mono ?_
  rintro e w' ⟨rfl, rfl⟩
  go_wp2_with fail
  go_ret2
  exact ⟨rfl, (Below.refl _ _).alloc (Nat.le_refl _) _⟩
theorem sub_any (a b : Int) (w : World) : Calls Tryd.prog 17 #[.int .i64 a, .int .i64 b] w fun e w' => e = .returned (.tuple #[.int .i64 (sumV [a, wrap64 (-b)]), .int .i64 (sumE [a, wrap64 (-b)])]) ∧ Below w.heap.size w w' := by
  have c := hide (sum_new2 a (wrap64 (-b)) w)
  go_enter Tryd.func17, Tryd.ntmps17
  go_wp2_with fail
  refine c.out.mono ?_
  rintro e w' ⟨rfl, rfl⟩
  go_wp2_with fail
  go_ret2
  exact ⟨rfl, (Below.refl _ _).alloc (Nat.le_refl _) _⟩
theorem neg_any (a : Int) (w : World) : Calls Tryd.prog 18 #[.int .i64 a] w fun e w' => e = .returned (.tuple #[.int .i64 (sumV [wrap64 (-a)]), .int .i64 (sumE [wrap64 (-a)])]) ∧ Below w.heap.size w w' := by
  have c := hide (sum_new1 (wrap64 (-a)) w)
  go_enter Tryd.func18, Tryd.ntmps18
  go_wp2_with fail
  refine c.out.mono ?_
  rintro e w' ⟨rfl, rfl⟩
  go_wp2_with fail
  go_ret2
  exact ⟨rfl, (Below.refl _ _).alloc (Nat.le_refl _) _⟩

theorem wf_bounds {a : Int} (h : (Lit.int .i64 a).wf = true) : -9223372036854775808 ≤ a ∧ a ≤ 9223372036854775807 := by
  simp [Lit.wf] at h; simp [IntKind.min, IntKind.signed, IntKind.bits] at h; exact h

set_option maxHeartbeats 400000 in
theorem amountAdd_walk (a0 : Int) (a1 : Int) (w : World) (_w0 : (Lit.int .i64 a0).wf = true) (w1 : (Lit.int .i64 a1).wf = true) :
    Calls Tryd.prog 3 #[.int .i64 a0, .int .i64 a1] w fun e w' => e = .returned (.bool true) ∧ Below w.heap.size w w' := by
  obtain ⟨l1, l2⟩ := wf_bounds w1
  clear w1
  have add := fun w => hide (add_any a0 a1 w)
  have radd := fun w => hide (refadd_any a0 a1 w)
  have va := fun w => hide (valid_any a0 w)
  have ra := fun w => hide (refvalid_any a0 w)
  have rb := fun w => hide (refvalid_any a1 w)
  have kn := fun w => hide (known_any w)
  by_cases hb : okA a1
  · have bb := okB_yes hb
    have hw : wrap64 (-a1) = -a1 := by unfold okA at hb; unfold wrap64; omega
    have sub := fun w => hide (sub_any a0 a1 w)
    have neg := fun w => hide (neg_any a1 w)
    have rad2 := fun w => hide (refadd_any a0 (-a1) w)
    have hn : okA (-a1) := by unfold okA at *; omega
    have he := sumE_ok [-a1] (by intro x hx; simp at hx; rw [hx]; exact hn) (by rw [tot1]; exact hn)
    have hv := sumV_ok [-a1] he
    rw [tot1] at hv
    simp only [hw] at sub neg
    simp only [he, hv] at neg
    obtain ⟨b1, b2⟩ := hb
    clear hw hn he hv
    go_enter Tryd.func3, Tryd.ntmps3
    go_wp2_with fail
    refine (add _).out.mono ?_
    rintro e w1 ⟨rfl, hb1⟩
    have HB1 := hide hb1
    clear hb1
    go_wp2_with fail
    refine (radd _).out.mono ?_
    rintro e w' ⟨rfl, rfl⟩
    go_wp2_with fail
    refine (va _).out.mono ?_
    rintro e w' ⟨rfl, rfl⟩
    go_wp2_with fail
    refine (ra _).out.mono ?_
    rintro e w' ⟨rfl, rfl⟩
    go_wp2_with fail
    refine (sub _).out.mono ?_
    rintro e w2 ⟨rfl, hb2⟩
    have HB2 := hide (HB1.out.trans (hb2.mono HB1.out.size))
    clear hb2
    go_wp2_with fail
    refine (neg _).out.mono ?_
    rintro e w3 ⟨rfl, hb3⟩
    have HB3 := hide (HB2.out.trans (hb3.mono HB2.out.size))
    clear hb3
    go_wp2_with fail
    refine (rb _).out.mono ?_
    rintro e w' ⟨rfl, rfl⟩
    go_wp2_with fail
    refine (rad2 _).out.mono ?_
    rintro e w' ⟨rfl, rfl⟩
    go_wp2_with fail
    refine (kn _).out.mono ?_
    rintro e w4 ⟨rfl, hb4⟩
    have HB4 := hide (HB3.out.trans (hb4.mono HB3.out.size))
    clear hb4
    go_wp2_with fail
    go_ret
    exact ⟨rfl, HB4.out⟩
  · have bb := okB_no hb
    have hn : ¬ okA (wrap64 (-a1)) := by unfold okA at *; unfold wrap64; omega
    have sub := fun w => hide (sub_any a0 a1 w)
    have neg := fun w => hide (neg_any a1 w)
    have he := sumE_bad [wrap64 (-a1)] _ (by simp) hn
    have he2 := sumE_bad [a0, wrap64 (-a1)] (wrap64 (-a1)) (by simp) hn
    have hv := sumV_ne [wrap64 (-a1)] (by omega)
    have hv2 := sumV_ne [a0, wrap64 (-a1)] (by omega)
    simp only [he2, hv2] at sub
    simp only [he, hv] at neg
    clear hn he hv he2 hv2 hb
    go_enter Tryd.func3, Tryd.ntmps3
    go_wp2_with fail
    refine (add _).out.mono ?_
    rintro e w1 ⟨rfl, hb1⟩
    have HB1 := hide hb1
    clear hb1
    go_wp2_with fail
    refine (radd _).out.mono ?_
    rintro e w' ⟨rfl, rfl⟩
    go_wp2_with fail
    refine (va _).out.mono ?_
    rintro e w' ⟨rfl, rfl⟩
    go_wp2_with fail
    refine (ra _).out.mono ?_
    rintro e w' ⟨rfl, rfl⟩
    go_wp2_with fail
    refine (sub _).out.mono ?_
    rintro e w2 ⟨rfl, hb2⟩
    have HB2 := hide (HB1.out.trans (hb2.mono HB1.out.size))
    clear hb2
    go_wp2_with fail
    refine (neg _).out.mono ?_
    rintro e w3 ⟨rfl, hb3⟩
    have HB3 := hide (HB2.out.trans (hb3.mono HB2.out.size))
    clear hb3
    go_wp2_with fail
    refine (rb _).out.mono ?_
    rintro e w' ⟨rfl, rfl⟩
    go_wp2_with fail
    refine (kn _).out.mono ?_
    rintro e w4 ⟨rfl, hb4⟩
    have HB4 := hide (HB3.out.trans (hb4.mono HB3.out.size))
    clear hb4
    go_wp2_with fail
    go_ret
    exact ⟨rfl, HB4.out⟩
end Go.Proofs.YtahfjhmgmpbmkaaDoor
