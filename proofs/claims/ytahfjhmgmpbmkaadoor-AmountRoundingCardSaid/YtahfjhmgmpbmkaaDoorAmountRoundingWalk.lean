/-
  The walk of the statement AmountRounding: the four modes are ordered, differ by at most one, and agree at integers.
-/
import Derived.Test.YtahfjhmgmpbmkaaDoorAmountMulRemWalk
import Derived.Test.YtahfjhmgmpbmkaaDoorAmountNegationWalk
namespace Go.Proofs.YtahfjhmgmpbmkaaDoor
open Go.RowKit

/-- Four numbers lie in block b, and none is frozen. -/
structure Arr4 (b : Nat) (w : World) (v0 v1 v2 v3 : Int) : Prop where
  c0 : w.cell? ⟨b, 0, none⟩ = some (.int .i64 v0)
  c1 : w.cell? ⟨b, 1, none⟩ = some (.int .i64 v1)
  c2 : w.cell? ⟨b, 2, none⟩ = some (.int .i64 v2)
  c3 : w.cell? ⟨b, 3, none⟩ = some (.int .i64 v3)
  f0 : w.frozen? ⟨b, 0, none⟩ = false
  f1 : w.frozen? ⟨b, 1, none⟩ = false
  f2 : w.frozen? ⟨b, 2, none⟩ = false
  f3 : w.frozen? ⟨b, 3, none⟩ = false

theorem Arr4.keep {b : Nat} {w w' : World} {v0 v1 v2 v3 : Int} (h : Arr4 b w v0 v1 v2 v3) (hb : Below w.heap.size w w') (hlt : b < w.heap.size) : Arr4 b w' v0 v1 v2 v3 := by
  obtain ⟨h0, h1, h2, h3, g0, g1, g2, g3⟩ := h
  refine ⟨?_, ?_, ?_, ?_, ?_, ?_, ?_, ?_⟩ <;> first | (rw [hb.cell (by exact hlt)]; assumption) | (rw [hb.frozen (by exact hlt)]; assumption)
theorem arr4_new (w : World) : Arr4 w.heap.size (w.alloc (.cells #[.int .i64 0, .int .i64 0, .int .i64 0, .int .i64 0] 44)) 0 0 0 0 := by
  refine ⟨?_, ?_, ?_, ?_, ?_, ?_, ?_, ?_⟩ <;> simp [go_sem]
theorem Arr4.set0 {b : Nat} {w : World} {v0 v1 v2 v3 : Int} (h : Arr4 b w v0 v1 v2 v3) (x : Int) : Arr4 b (w.setCell ⟨b, 0, none⟩ (.int .i64 x)) x v1 v2 v3 := by
  obtain ⟨h0, h1, h2, h3, g0, g1, g2, g3⟩ := h
  refine ⟨?_, ?_, ?_, ?_, ?_, ?_, ?_, ?_⟩ <;> simp [go_sem, *]
theorem Arr4.set1 {b : Nat} {w : World} {v0 v1 v2 v3 : Int} (h : Arr4 b w v0 v1 v2 v3) (x : Int) : Arr4 b (w.setCell ⟨b, 1, none⟩ (.int .i64 x)) v0 x v2 v3 := by
  obtain ⟨h0, h1, h2, h3, g0, g1, g2, g3⟩ := h
  refine ⟨?_, ?_, ?_, ?_, ?_, ?_, ?_, ?_⟩ <;> simp [go_sem, *]
theorem Arr4.set2 {b : Nat} {w : World} {v0 v1 v2 v3 : Int} (h : Arr4 b w v0 v1 v2 v3) (x : Int) : Arr4 b (w.setCell ⟨b, 2, none⟩ (.int .i64 x)) v0 v1 x v3 := by
  obtain ⟨h0, h1, h2, h3, g0, g1, g2, g3⟩ := h
  refine ⟨?_, ?_, ?_, ?_, ?_, ?_, ?_, ?_⟩ <;> simp [go_sem, *]
theorem Arr4.set3 {b : Nat} {w : World} {v0 v1 v2 v3 : Int} (h : Arr4 b w v0 v1 v2 v3) (x : Int) : Arr4 b (w.setCell ⟨b, 3, none⟩ (.int .i64 x)) v0 v1 v2 x := by
  obtain ⟨h0, h1, h2, h3, g0, g1, g2, g3⟩ := h
  refine ⟨?_, ?_, ?_, ?_, ?_, ?_, ?_, ?_⟩ <;> simp [go_sem, *]

theorem rnd_facts (neg : Bool) (s t den : Int) (t1 : 0 ≤ t) (t2 : t < den) (s1 : 0 ≤ s) :
    rnd neg s t den 0 ≤ rnd neg s t den 2 ∧ rnd neg s t den 2 ≤ rnd neg s t den 1 ∧ rnd neg s t den 1 - rnd neg s t den 0 ≤ 1 ∧
    (rnd neg s t den 1 = rnd neg s t den 0 ↔ t = 0) ∧ (rnd neg s t den 0 < 0 → rnd neg s t den 3 = rnd neg s t den 1) ∧ (0 ≤ rnd neg s t den 0 → rnd neg s t den 3 = rnd neg s t den 0) ∧
    (2 * (if neg = true ∧ 0 < t then den - t else t) < den → rnd neg s t den 2 = rnd neg s t den 0) ∧
    (den < 2 * (if neg = true ∧ 0 < t then den - t else t) → rnd neg s t den 2 = rnd neg s t den 1) ∧
    (2 * (if neg = true ∧ 0 < t then den - t else t) = den → rnd neg s t den 2 % 2 = 0) := by
  by_cases ht : 0 < t
  · by_cases hg : den < 2 * t
    · cases neg <;> simp [rnd, upB, ht, hg] <;> omega
    · by_cases hE : 2 * t = den
      · by_cases ho : s % 2 = 1
        · cases neg <;> simp [rnd, upB, ht, hE, ho] <;> omega
        · cases neg <;> simp [rnd, upB, ht, hE, ho] <;> omega
      · cases neg <;> simp [rnd, upB, ht, hg, hE] <;> omega
  · obtain rfl : t = 0 := by omega
    cases neg <;> simp [rnd, upB] <;> omega


/-- What the four results and the remainder are to one another. -/
structure Rnd4 (l0 l1 l2 l3 r den : Int) : Prop where
  h02 : l0 ≤ l2
  h21 : l2 ≤ l1
  h1 : l1 - l0 ≤ 1
  heq : l1 = l0 ↔ r = 0
  hneg : l0 < 0 → l3 = l1
  hpos : 0 ≤ l0 → l3 = l0
  hlt : 2 * r < den → l2 = l0
  hgt : den < 2 * r → l2 = l1
  htie : 2 * r = den → l2 % 2 = 0
  r0 : 0 ≤ r
  rd : r < den
  den1 : den ≤ 1000000000000000

theorem rnd4_of (x num den : Int) (h0 : mdE x num den 0 = 0) (h1 : mdE x num den 1 = 0) (h2 : mdE x num den 2 = 0) (h3 : mdE x num den 3 = 0) :
    Rnd4 (mdV x num den 0) (mdV x num den 1) (mdV x num den 2) (mdV x num den 3) (mrR x num den) den := by
  obtain ⟨ha, _⟩ := mdE_zero h0
  have d1 := ha.2.2.1
  have p1 : 0 ≤ absP x num / den := Int.ediv_nonneg (absP_nonneg x num) (by omega)
  have p2 : 0 ≤ absP x num % den := Int.emod_nonneg _ (by omega)
  have p3 : absP x num % den < den := Int.emod_lt_of_pos _ (by omega)
  obtain ⟨f1, f2, f3, f4, f5, f6, f7, f8, f9⟩ := rnd_facts (negB x num) (absP x num / den) (absP x num % den) den p2 p3 p1
  obtain ⟨b1, b2⟩ := mrR_bounds h0
  have hr : mrR x num den = if negB x num = true ∧ 0 < absP x num % den then den - absP x num % den else absP x num % den := by rw [mrR_ok _ _ _ h0]; rfl
  rw [mdV_ok _ _ _ _ h0, mdV_ok _ _ _ _ h1, mdV_ok _ _ _ _ h2, mdV_ok _ _ _ _ h3]
  unfold mdQ
  rw [← hr] at f7 f8 f9
  refine ⟨f1, f2, f3, ?_, f5, f6, f7, f8, f9, b1, b2, ha.2.2.2⟩
  rw [f4, hr]
  split <;> omega

theorem tmod_even {x : Int} (h : x % 2 = 0) : (x.tmod 2 == 0) = true := by
  have : x.tmod 2 = 0 := by
    have h2 := Int.dvd_of_emod_eq_zero h
    exact Int.tmod_eq_zero_of_dvd h2
  simp [this]

set_option maxHeartbeats 8000000 in
theorem amountRounding_walk (a0 : Int) (a1 : Int) (a2 : Int) (w : World) (_w0 : (Lit.int .i64 a0).wf = true) (_w1 : (Lit.int .i64 a1).wf = true) (w2 : (Lit.int .i64 a2).wf = true) :
    Calls Tryd.prog 8 #[.int .i64 a0, .int .i64 a1, .int .i64 a2] w fun e w' => e = .returned (.bool true) ∧ Below w.heap.size w w' := by
  have hd := (wf_bounds w2).2
  have D := divFor_any a0 a1 a2 (by omega)
  have kn := fun w => hide (known_any w)
  have mr := fun w => hide (mulrem_any a0 a1 a2 w D)
  have HW := hide (arr4_new w)
  have c0 := fun w => hide (muldiv_any a0 a1 a2 0 w D)
  obtain ⟨e0, f0⟩ := mdV_ok2 a0 a1 a2 0
  have c1 := fun w => hide (muldiv_any a0 a1 a2 1 w D)
  obtain ⟨e1, f1⟩ := mdV_ok2 a0 a1 a2 1
  have c2 := fun w => hide (muldiv_any a0 a1 a2 2 w D)
  obtain ⟨e2, f2⟩ := mdV_ok2 a0 a1 a2 2
  have c3 := fun w => hide (muldiv_any a0 a1 a2 3 w D)
  obtain ⟨e3, f3⟩ := mdV_ok2 a0 a1 a2 3
  clear w2 hd D
  go_enter Tryd.func8, Tryd.ntmps8
  go_wp2_with fail
  go_loopw [8] (fun m wr => ∃ k : Nat, k ≤ 4 ∧ m = .int .i64 k ∧ Hid (Below w.heap.size w wr) ∧ w.heap.size < wr.heap.size ∧ Hid (Arr4 w.heap.size wr (if 0 < k then mdV a0 a1 a2 0 else 0) (if 1 < k then mdV a0 a1 a2 1 else 0) (if 2 < k then mdV a0 a1 a2 2 else 0) (if 3 < k then mdV a0 a1 a2 3 else 0)) ∧ Hid (∀ j : Nat, j < k → mdE a0 a1 a2 j = 0)) (fun m _ => 4 - (intOf m).toNat)
  case atStart => exact ⟨0, by decide, rfl, hide ((Below.refl _ _).alloc (Nat.le_refl _) _), by simp, HW, hide (fun _ h => by omega)⟩
  case round =>
    obtain ⟨k, hk, rfl, HB, hlt, HC, HE⟩ := hrel
    have h5 : k = 0 ∨ k = 1 ∨ k = 2 ∨ k = 3 ∨ k = 4 := by omega
    rcases h5 with rfl | rfl | rfl | rfl | rfl
    · by_cases hE : mdE a0 a1 a2 0 = 0
      · have hb : (mdE a0 a1 a2 0 != 0) = false := by simpa using hE
        have HE2 : Hid (∀ j : Nat, j < 1 → mdE a0 a1 a2 j = 0) := hide (fun j hj => by
          rcases Nat.lt_or_ge j 0 with h | h
          · exact HE.out j h
          · obtain rfl : j = 0 := by omega
            exact hE)
        clear hE
        go_wp2_with fail
        refine (c0 _).out.mono ?_
        rintro e w1 ⟨rfl, hb1⟩
        have hlt1 : w.heap.size < w1.heap.size := Nat.lt_of_lt_of_le hlt hb1.size
        have HC1 := hide (HC.out.keep hb1 hlt)
        have HB1 := hide (HB.out.trans (hb1.mono (Nat.le_of_lt hlt)))
        clear hb1
        have fz := HC1.out.f0
        have cc := HC1.out.c0
        go_wp2_with fail
        go_roundw
        case rel => exact ⟨1, by decide, rfl, hide (HB1.out.setCell (Nat.le_refl _) _), by simpa [World.setCell] using hlt1, hide (HC1.out.set0 _), HE2⟩
        case measure => simp [intOf]
      · have hb : (mdE a0 a1 a2 0 != 0) = true := by simpa using hE
        clear hE
        go_wp2_with fail
        refine (c0 _).out.mono ?_
        rintro e w1 ⟨rfl, hb1⟩
        have HB1 := hide (HB.out.trans (hb1.mono (Nat.le_of_lt hlt)))
        have hlt1 : w.heap.size < w1.heap.size := Nat.lt_of_lt_of_le hlt hb1.size
        clear hb1
        go_wp2_with fail
        refine (kn _).out.mono ?_
        rintro e w2 ⟨rfl, hb2⟩
        have HB2 := hide (HB1.out.trans (hb2.mono (Nat.le_of_lt hlt1)))
        clear hb2
        go_wp2_with fail
        go_ret
        exact ⟨rfl, HB2.out⟩
    · by_cases hE : mdE a0 a1 a2 1 = 0
      · have hb : (mdE a0 a1 a2 1 != 0) = false := by simpa using hE
        have HE2 : Hid (∀ j : Nat, j < 2 → mdE a0 a1 a2 j = 0) := hide (fun j hj => by
          rcases Nat.lt_or_ge j 1 with h | h
          · exact HE.out j h
          · obtain rfl : j = 1 := by omega
            exact hE)
        clear hE
        go_wp2_with fail
        refine (c1 _).out.mono ?_
        rintro e w1 ⟨rfl, hb1⟩
        have hlt1 : w.heap.size < w1.heap.size := Nat.lt_of_lt_of_le hlt hb1.size
        have HC1 := hide (HC.out.keep hb1 hlt)
        have HB1 := hide (HB.out.trans (hb1.mono (Nat.le_of_lt hlt)))
        clear hb1
        have fz := HC1.out.f1
        have cc := HC1.out.c1
        go_wp2_with fail
        go_roundw
        case rel => exact ⟨2, by decide, rfl, hide (HB1.out.setCell (Nat.le_refl _) _), by simpa [World.setCell] using hlt1, hide (HC1.out.set1 _), HE2⟩
        case measure => simp [intOf]
      · have hb : (mdE a0 a1 a2 1 != 0) = true := by simpa using hE
        clear hE
        go_wp2_with fail
        refine (c1 _).out.mono ?_
        rintro e w1 ⟨rfl, hb1⟩
        have HB1 := hide (HB.out.trans (hb1.mono (Nat.le_of_lt hlt)))
        have hlt1 : w.heap.size < w1.heap.size := Nat.lt_of_lt_of_le hlt hb1.size
        clear hb1
        go_wp2_with fail
        refine (kn _).out.mono ?_
        rintro e w2 ⟨rfl, hb2⟩
        have HB2 := hide (HB1.out.trans (hb2.mono (Nat.le_of_lt hlt1)))
        clear hb2
        go_wp2_with fail
        go_ret
        exact ⟨rfl, HB2.out⟩
    · by_cases hE : mdE a0 a1 a2 2 = 0
      · have hb : (mdE a0 a1 a2 2 != 0) = false := by simpa using hE
        have HE2 : Hid (∀ j : Nat, j < 3 → mdE a0 a1 a2 j = 0) := hide (fun j hj => by
          rcases Nat.lt_or_ge j 2 with h | h
          · exact HE.out j h
          · obtain rfl : j = 2 := by omega
            exact hE)
        clear hE
        go_wp2_with fail
        refine (c2 _).out.mono ?_
        rintro e w1 ⟨rfl, hb1⟩
        have hlt1 : w.heap.size < w1.heap.size := Nat.lt_of_lt_of_le hlt hb1.size
        have HC1 := hide (HC.out.keep hb1 hlt)
        have HB1 := hide (HB.out.trans (hb1.mono (Nat.le_of_lt hlt)))
        clear hb1
        have fz := HC1.out.f2
        have cc := HC1.out.c2
        go_wp2_with fail
        go_roundw
        case rel => exact ⟨3, by decide, rfl, hide (HB1.out.setCell (Nat.le_refl _) _), by simpa [World.setCell] using hlt1, hide (HC1.out.set2 _), HE2⟩
        case measure => simp [intOf]
      · have hb : (mdE a0 a1 a2 2 != 0) = true := by simpa using hE
        clear hE
        go_wp2_with fail
        refine (c2 _).out.mono ?_
        rintro e w1 ⟨rfl, hb1⟩
        have HB1 := hide (HB.out.trans (hb1.mono (Nat.le_of_lt hlt)))
        have hlt1 : w.heap.size < w1.heap.size := Nat.lt_of_lt_of_le hlt hb1.size
        clear hb1
        go_wp2_with fail
        refine (kn _).out.mono ?_
        rintro e w2 ⟨rfl, hb2⟩
        have HB2 := hide (HB1.out.trans (hb2.mono (Nat.le_of_lt hlt1)))
        clear hb2
        go_wp2_with fail
        go_ret
        exact ⟨rfl, HB2.out⟩
    · by_cases hE : mdE a0 a1 a2 3 = 0
      · have hb : (mdE a0 a1 a2 3 != 0) = false := by simpa using hE
        have HE2 : Hid (∀ j : Nat, j < 4 → mdE a0 a1 a2 j = 0) := hide (fun j hj => by
          rcases Nat.lt_or_ge j 3 with h | h
          · exact HE.out j h
          · obtain rfl : j = 3 := by omega
            exact hE)
        clear hE
        go_wp2_with fail
        refine (c3 _).out.mono ?_
        rintro e w1 ⟨rfl, hb1⟩
        have hlt1 : w.heap.size < w1.heap.size := Nat.lt_of_lt_of_le hlt hb1.size
        have HC1 := hide (HC.out.keep hb1 hlt)
        have HB1 := hide (HB.out.trans (hb1.mono (Nat.le_of_lt hlt)))
        clear hb1
        have fz := HC1.out.f3
        have cc := HC1.out.c3
        go_wp2_with fail
        go_roundw
        case rel => exact ⟨4, by decide, rfl, hide (HB1.out.setCell (Nat.le_refl _) _), by simpa [World.setCell] using hlt1, hide (HC1.out.set3 _), HE2⟩
        case measure => simp [intOf]
      · have hb : (mdE a0 a1 a2 3 != 0) = true := by simpa using hE
        clear hE
        go_wp2_with fail
        refine (c3 _).out.mono ?_
        rintro e w1 ⟨rfl, hb1⟩
        have HB1 := hide (HB.out.trans (hb1.mono (Nat.le_of_lt hlt)))
        have hlt1 : w.heap.size < w1.heap.size := Nat.lt_of_lt_of_le hlt hb1.size
        clear hb1
        go_wp2_with fail
        refine (kn _).out.mono ?_
        rintro e w2 ⟨rfl, hb2⟩
        have HB2 := hide (HB1.out.trans (hb2.mono (Nat.le_of_lt hlt1)))
        clear hb2
        go_wp2_with fail
        go_ret
        exact ⟨rfl, HB2.out⟩
    · have E0 := HE.out 0 (by decide)
      have E1 := HE.out 1 (by decide)
      have E2 := HE.out 2 (by decide)
      have E3 := HE.out 3 (by decide)
      have R := rnd4_of a0 a1 a2 E0 E1 E2 E3
      have hz : (mdE a0 a1 a2 0 != 0) = false := by simpa using E0
      have HZ : Hid ((mdE a0 a1 a2 0 != 0) = false) := hide hz
      simp only [show (0 : Nat) < 4 from by decide, show (1 : Nat) < 4 from by decide, show (2 : Nat) < 4 from by decide, show (3 : Nat) < 4 from by decide, if_true] at HC
      clear E0 E1 E2 E3
      by_cases z1 : mrR a0 a1 a2 = 0
      · have b1 : (mdV a0 a1 a2 1 == mdV a0 a1 a2 0) = true := by simpa using R.heq.2 z1
        have b2 : (mrR a0 a1 a2 == 0) = true := by simpa using z1
        clear z1
        by_cases n1 : mdV a0 a1 a2 0 < 0
        · have b3 : (mdV a0 a1 a2 3 != mdV a0 a1 a2 1) = false := by simpa using R.hneg n1
          by_cases k1 : 2 * mrR a0 a1 a2 < a2
          · have m1 : (mdV a0 a1 a2 2 == mdV a0 a1 a2 0) = true := by simpa using R.hlt k1
            obtain ⟨g1, g2, g3, _, _, _, _, _, _, g10, g11, g12⟩ := R
            go_wp2_with fail
            refine (mr _).out.mono ?_
            rintro e w1 ⟨rfl, hb1⟩
            have hlt1 : w.heap.size < w1.heap.size := Nat.lt_of_lt_of_le hlt hb1.size
            have HC1 := hide (HC.out.keep hb1 hlt)
            have HB1 := hide (HB.out.trans (hb1.mono (Nat.le_of_lt hlt)))
            obtain ⟨q0, q1, q2, q3, _, _, _, _⟩ := HC.out.keep hb1 hlt
            clear hb1
            go_wp2_with fail
            refine (kn _).out.mono ?_
            rintro e w2 ⟨rfl, hb2⟩
            have HB2 := hide (HB1.out.trans (hb2.mono (Nat.le_of_lt hlt1)))
            obtain ⟨u0, u1, u2, u3, _, _, _, _⟩ := HC1.out.keep hb2 hlt1
            clear hb2
            go_wp2_with fail
            go_ret
            exact ⟨rfl, HB2.out⟩
          · by_cases k2 : a2 < 2 * mrR a0 a1 a2
            · have m1 : (mdV a0 a1 a2 2 == mdV a0 a1 a2 1) = true := by simpa using R.hgt k2
              obtain ⟨g1, g2, g3, _, _, _, _, _, _, g10, g11, g12⟩ := R
              go_wp2_with fail
              refine (mr _).out.mono ?_
              rintro e w1 ⟨rfl, hb1⟩
              have hlt1 : w.heap.size < w1.heap.size := Nat.lt_of_lt_of_le hlt hb1.size
              have HC1 := hide (HC.out.keep hb1 hlt)
              have HB1 := hide (HB.out.trans (hb1.mono (Nat.le_of_lt hlt)))
              obtain ⟨q0, q1, q2, q3, _, _, _, _⟩ := HC.out.keep hb1 hlt
              clear hb1
              go_wp2_with fail
              refine (kn _).out.mono ?_
              rintro e w2 ⟨rfl, hb2⟩
              have HB2 := hide (HB1.out.trans (hb2.mono (Nat.le_of_lt hlt1)))
              obtain ⟨u0, u1, u2, u3, _, _, _, _⟩ := HC1.out.keep hb2 hlt1
              clear hb2
              go_wp2_with fail
              go_ret
              exact ⟨rfl, HB2.out⟩
            · have m1 := tmod_even (R.htie (by omega))
              have m2 : (mdV a0 a1 a2 2 % 2 == 0) = true := by simpa using R.htie (by omega)
              obtain ⟨g1, g2, g3, _, _, _, _, _, _, g10, g11, g12⟩ := R
              go_wp2_with fail
              refine (mr _).out.mono ?_
              rintro e w1 ⟨rfl, hb1⟩
              have hlt1 : w.heap.size < w1.heap.size := Nat.lt_of_lt_of_le hlt hb1.size
              have HC1 := hide (HC.out.keep hb1 hlt)
              have HB1 := hide (HB.out.trans (hb1.mono (Nat.le_of_lt hlt)))
              obtain ⟨q0, q1, q2, q3, _, _, _, _⟩ := HC.out.keep hb1 hlt
              clear hb1
              go_wp2_with fail
              refine (kn _).out.mono ?_
              rintro e w2 ⟨rfl, hb2⟩
              have HB2 := hide (HB1.out.trans (hb2.mono (Nat.le_of_lt hlt1)))
              obtain ⟨u0, u1, u2, u3, _, _, _, _⟩ := HC1.out.keep hb2 hlt1
              clear hb2
              go_wp2_with fail
              go_ret
              exact ⟨rfl, HB2.out⟩
        · have b3 : (mdV a0 a1 a2 3 != mdV a0 a1 a2 0) = false := by simpa using R.hpos (by omega)
          by_cases k1 : 2 * mrR a0 a1 a2 < a2
          · have m1 : (mdV a0 a1 a2 2 == mdV a0 a1 a2 0) = true := by simpa using R.hlt k1
            obtain ⟨g1, g2, g3, _, _, _, _, _, _, g10, g11, g12⟩ := R
            go_wp2_with fail
            refine (mr _).out.mono ?_
            rintro e w1 ⟨rfl, hb1⟩
            have hlt1 : w.heap.size < w1.heap.size := Nat.lt_of_lt_of_le hlt hb1.size
            have HC1 := hide (HC.out.keep hb1 hlt)
            have HB1 := hide (HB.out.trans (hb1.mono (Nat.le_of_lt hlt)))
            obtain ⟨q0, q1, q2, q3, _, _, _, _⟩ := HC.out.keep hb1 hlt
            clear hb1
            go_wp2_with fail
            refine (kn _).out.mono ?_
            rintro e w2 ⟨rfl, hb2⟩
            have HB2 := hide (HB1.out.trans (hb2.mono (Nat.le_of_lt hlt1)))
            obtain ⟨u0, u1, u2, u3, _, _, _, _⟩ := HC1.out.keep hb2 hlt1
            clear hb2
            go_wp2_with fail
            go_ret
            exact ⟨rfl, HB2.out⟩
          · by_cases k2 : a2 < 2 * mrR a0 a1 a2
            · have m1 : (mdV a0 a1 a2 2 == mdV a0 a1 a2 1) = true := by simpa using R.hgt k2
              obtain ⟨g1, g2, g3, _, _, _, _, _, _, g10, g11, g12⟩ := R
              go_wp2_with fail
              refine (mr _).out.mono ?_
              rintro e w1 ⟨rfl, hb1⟩
              have hlt1 : w.heap.size < w1.heap.size := Nat.lt_of_lt_of_le hlt hb1.size
              have HC1 := hide (HC.out.keep hb1 hlt)
              have HB1 := hide (HB.out.trans (hb1.mono (Nat.le_of_lt hlt)))
              obtain ⟨q0, q1, q2, q3, _, _, _, _⟩ := HC.out.keep hb1 hlt
              clear hb1
              go_wp2_with fail
              refine (kn _).out.mono ?_
              rintro e w2 ⟨rfl, hb2⟩
              have HB2 := hide (HB1.out.trans (hb2.mono (Nat.le_of_lt hlt1)))
              obtain ⟨u0, u1, u2, u3, _, _, _, _⟩ := HC1.out.keep hb2 hlt1
              clear hb2
              go_wp2_with fail
              go_ret
              exact ⟨rfl, HB2.out⟩
            · have m1 := tmod_even (R.htie (by omega))
              have m2 : (mdV a0 a1 a2 2 % 2 == 0) = true := by simpa using R.htie (by omega)
              obtain ⟨g1, g2, g3, _, _, _, _, _, _, g10, g11, g12⟩ := R
              go_wp2_with fail
              refine (mr _).out.mono ?_
              rintro e w1 ⟨rfl, hb1⟩
              have hlt1 : w.heap.size < w1.heap.size := Nat.lt_of_lt_of_le hlt hb1.size
              have HC1 := hide (HC.out.keep hb1 hlt)
              have HB1 := hide (HB.out.trans (hb1.mono (Nat.le_of_lt hlt)))
              obtain ⟨q0, q1, q2, q3, _, _, _, _⟩ := HC.out.keep hb1 hlt
              clear hb1
              go_wp2_with fail
              refine (kn _).out.mono ?_
              rintro e w2 ⟨rfl, hb2⟩
              have HB2 := hide (HB1.out.trans (hb2.mono (Nat.le_of_lt hlt1)))
              obtain ⟨u0, u1, u2, u3, _, _, _, _⟩ := HC1.out.keep hb2 hlt1
              clear hb2
              go_wp2_with fail
              go_ret
              exact ⟨rfl, HB2.out⟩
      · have b1 : (mdV a0 a1 a2 1 == mdV a0 a1 a2 0) = false := by simpa using fun h => z1 (R.heq.1 h)
        have b2 : (mrR a0 a1 a2 == 0) = false := by simpa using z1
        clear z1
        by_cases n1 : mdV a0 a1 a2 0 < 0
        · have b3 : (mdV a0 a1 a2 3 != mdV a0 a1 a2 1) = false := by simpa using R.hneg n1
          by_cases k1 : 2 * mrR a0 a1 a2 < a2
          · have m1 : (mdV a0 a1 a2 2 == mdV a0 a1 a2 0) = true := by simpa using R.hlt k1
            obtain ⟨g1, g2, g3, _, _, _, _, _, _, g10, g11, g12⟩ := R
            go_wp2_with fail
            refine (mr _).out.mono ?_
            rintro e w1 ⟨rfl, hb1⟩
            have hlt1 : w.heap.size < w1.heap.size := Nat.lt_of_lt_of_le hlt hb1.size
            have HC1 := hide (HC.out.keep hb1 hlt)
            have HB1 := hide (HB.out.trans (hb1.mono (Nat.le_of_lt hlt)))
            obtain ⟨q0, q1, q2, q3, _, _, _, _⟩ := HC.out.keep hb1 hlt
            clear hb1
            go_wp2_with fail
            refine (kn _).out.mono ?_
            rintro e w2 ⟨rfl, hb2⟩
            have HB2 := hide (HB1.out.trans (hb2.mono (Nat.le_of_lt hlt1)))
            obtain ⟨u0, u1, u2, u3, _, _, _, _⟩ := HC1.out.keep hb2 hlt1
            clear hb2
            go_wp2_with fail
            go_ret
            exact ⟨rfl, HB2.out⟩
          · by_cases k2 : a2 < 2 * mrR a0 a1 a2
            · have m1 : (mdV a0 a1 a2 2 == mdV a0 a1 a2 1) = true := by simpa using R.hgt k2
              obtain ⟨g1, g2, g3, _, _, _, _, _, _, g10, g11, g12⟩ := R
              go_wp2_with fail
              refine (mr _).out.mono ?_
              rintro e w1 ⟨rfl, hb1⟩
              have hlt1 : w.heap.size < w1.heap.size := Nat.lt_of_lt_of_le hlt hb1.size
              have HC1 := hide (HC.out.keep hb1 hlt)
              have HB1 := hide (HB.out.trans (hb1.mono (Nat.le_of_lt hlt)))
              obtain ⟨q0, q1, q2, q3, _, _, _, _⟩ := HC.out.keep hb1 hlt
              clear hb1
              go_wp2_with fail
              refine (kn _).out.mono ?_
              rintro e w2 ⟨rfl, hb2⟩
              have HB2 := hide (HB1.out.trans (hb2.mono (Nat.le_of_lt hlt1)))
              obtain ⟨u0, u1, u2, u3, _, _, _, _⟩ := HC1.out.keep hb2 hlt1
              clear hb2
              go_wp2_with fail
              go_ret
              exact ⟨rfl, HB2.out⟩
            · have m1 := tmod_even (R.htie (by omega))
              have m2 : (mdV a0 a1 a2 2 % 2 == 0) = true := by simpa using R.htie (by omega)
              obtain ⟨g1, g2, g3, _, _, _, _, _, _, g10, g11, g12⟩ := R
              go_wp2_with fail
              refine (mr _).out.mono ?_
              rintro e w1 ⟨rfl, hb1⟩
              have hlt1 : w.heap.size < w1.heap.size := Nat.lt_of_lt_of_le hlt hb1.size
              have HC1 := hide (HC.out.keep hb1 hlt)
              have HB1 := hide (HB.out.trans (hb1.mono (Nat.le_of_lt hlt)))
              obtain ⟨q0, q1, q2, q3, _, _, _, _⟩ := HC.out.keep hb1 hlt
              clear hb1
              go_wp2_with fail
              refine (kn _).out.mono ?_
              rintro e w2 ⟨rfl, hb2⟩
              have HB2 := hide (HB1.out.trans (hb2.mono (Nat.le_of_lt hlt1)))
              obtain ⟨u0, u1, u2, u3, _, _, _, _⟩ := HC1.out.keep hb2 hlt1
              clear hb2
              go_wp2_with fail
              go_ret
              exact ⟨rfl, HB2.out⟩
        · have b3 : (mdV a0 a1 a2 3 != mdV a0 a1 a2 0) = false := by simpa using R.hpos (by omega)
          by_cases k1 : 2 * mrR a0 a1 a2 < a2
          · have m1 : (mdV a0 a1 a2 2 == mdV a0 a1 a2 0) = true := by simpa using R.hlt k1
            obtain ⟨g1, g2, g3, _, _, _, _, _, _, g10, g11, g12⟩ := R
            go_wp2_with fail
            refine (mr _).out.mono ?_
            rintro e w1 ⟨rfl, hb1⟩
            have hlt1 : w.heap.size < w1.heap.size := Nat.lt_of_lt_of_le hlt hb1.size
            have HC1 := hide (HC.out.keep hb1 hlt)
            have HB1 := hide (HB.out.trans (hb1.mono (Nat.le_of_lt hlt)))
            obtain ⟨q0, q1, q2, q3, _, _, _, _⟩ := HC.out.keep hb1 hlt
            clear hb1
            go_wp2_with fail
            refine (kn _).out.mono ?_
            rintro e w2 ⟨rfl, hb2⟩
            have HB2 := hide (HB1.out.trans (hb2.mono (Nat.le_of_lt hlt1)))
            obtain ⟨u0, u1, u2, u3, _, _, _, _⟩ := HC1.out.keep hb2 hlt1
            clear hb2
            go_wp2_with fail
            go_ret
            exact ⟨rfl, HB2.out⟩
          · by_cases k2 : a2 < 2 * mrR a0 a1 a2
            · have m1 : (mdV a0 a1 a2 2 == mdV a0 a1 a2 1) = true := by simpa using R.hgt k2
              obtain ⟨g1, g2, g3, _, _, _, _, _, _, g10, g11, g12⟩ := R
              go_wp2_with fail
              refine (mr _).out.mono ?_
              rintro e w1 ⟨rfl, hb1⟩
              have hlt1 : w.heap.size < w1.heap.size := Nat.lt_of_lt_of_le hlt hb1.size
              have HC1 := hide (HC.out.keep hb1 hlt)
              have HB1 := hide (HB.out.trans (hb1.mono (Nat.le_of_lt hlt)))
              obtain ⟨q0, q1, q2, q3, _, _, _, _⟩ := HC.out.keep hb1 hlt
              clear hb1
              go_wp2_with fail
              refine (kn _).out.mono ?_
              rintro e w2 ⟨rfl, hb2⟩
              have HB2 := hide (HB1.out.trans (hb2.mono (Nat.le_of_lt hlt1)))
              obtain ⟨u0, u1, u2, u3, _, _, _, _⟩ := HC1.out.keep hb2 hlt1
              clear hb2
              go_wp2_with fail
              go_ret
              exact ⟨rfl, HB2.out⟩
            · have m1 := tmod_even (R.htie (by omega))
              have m2 : (mdV a0 a1 a2 2 % 2 == 0) = true := by simpa using R.htie (by omega)
              obtain ⟨g1, g2, g3, _, _, _, _, _, _, g10, g11, g12⟩ := R
              go_wp2_with fail
              refine (mr _).out.mono ?_
              rintro e w1 ⟨rfl, hb1⟩
              have hlt1 : w.heap.size < w1.heap.size := Nat.lt_of_lt_of_le hlt hb1.size
              have HC1 := hide (HC.out.keep hb1 hlt)
              have HB1 := hide (HB.out.trans (hb1.mono (Nat.le_of_lt hlt)))
              obtain ⟨q0, q1, q2, q3, _, _, _, _⟩ := HC.out.keep hb1 hlt
              clear hb1
              go_wp2_with fail
              refine (kn _).out.mono ?_
              rintro e w2 ⟨rfl, hb2⟩
              have HB2 := hide (HB1.out.trans (hb2.mono (Nat.le_of_lt hlt1)))
              obtain ⟨u0, u1, u2, u3, _, _, _, _⟩ := HC1.out.keep hb2 hlt1
              clear hb2
              go_wp2_with fail
              go_ret
              exact ⟨rfl, HB2.out⟩
end Go.Proofs.YtahfjhmgmpbmkaaDoor
