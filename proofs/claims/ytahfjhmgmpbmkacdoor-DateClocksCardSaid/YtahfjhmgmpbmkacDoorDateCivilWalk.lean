/-
  The walk of DateCivil.
-/
import Derived.Test.YtahfjhmgmpbmkacDoorRefTo
namespace Go.Proofs.YtahfjhmgmpbmkacDoor
open Go.RowKit
set_option linter.unusedVariables false

/-- The statements' day. -/
def dayV (n : Int) : Int := if -3 ≤ n ∧ n ≤ 73060 then n else IntKind.u64.wrap n % 73049
theorem dayV_bd (n : Int) (h1 : -9223372036854775808 ≤ n) (h2 : n ≤ 9223372036854775807) : -9223372036854775808 ≤ dayV n ∧ dayV n ≤ 9223372036854775807 := by
  unfold dayV; split <;> omega
theorem day_any (n : Int) (w : World) : Calls Tryd.prog 14 #[.int .i64 n] w fun e w' => e = .returned (.int .i64 (dayV n)) ∧ w = w' := by
  obtain ⟨U, hU⟩ : ∃ U, U = IntKind.u64.wrap n := ⟨_, rfl⟩
  have u0 : 0 ≤ U := by rw [hU]; simp [IntKind.wrap, IntKind.bits, IntKind.signed]; omega
  have t1 : U.tmod 73049 = U % 73049 := Int.tmod_eq_emod_of_nonneg u0
  have hU' := hU.symm
  unfold dayV
  by_cases h1 : -3 ≤ n
  · by_cases h2 : n ≤ 73060
    · rw [if_pos ⟨h1, h2⟩]
      clear hU hU' t1 u0
      go_enter Tryd.func14, Tryd.ntmps14
      go_wp2
      go_ret
      exact ⟨rfl, rfl⟩
    · rw [if_neg (fun h => h2 h.2), hU']
      have q : 0 ≤ U % 73049 ∧ U % 73049 ≤ 73048 := by omega
      obtain ⟨N, hN⟩ : ∃ N, N = U % 73049 := ⟨_, rfl⟩
      rw [← hN] at q t1 ⊢
      clear hU hN
      go_enter Tryd.func14, Tryd.ntmps14
      go_wp2
      go_ret
      exact ⟨rfl, rfl⟩
  · rw [if_neg (fun h => h1 h.1), hU']
    have q : 0 ≤ U % 73049 ∧ U % 73049 ≤ 73048 := by omega
    obtain ⟨N, hN⟩ : ∃ N, N = U % 73049 := ⟨_, rfl⟩
    rw [← hN] at q t1 ⊢
    clear hU hN
    go_enter Tryd.func14, Tryd.ntmps14
    go_wp2
    go_ret
    exact ⟨rfl, rfl⟩

theorem rday_any (n : Int) (w : World) : Calls Tryd.prog 16 #[.int .i64 n] w fun e w' => e = .returned (.bool (dayB n)) ∧ w = w' := by
  by_cases h1 : 0 ≤ n
  · by_cases h2 : n ≤ 73048
    · rw [dayB_yes h1 h2]
      go_enter Tryd.func16, Tryd.ntmps16
      go_wp2
      go_ret
      exact ⟨rfl, rfl⟩
    · rw [dayB_no (by omega)]
      go_enter Tryd.func16, Tryd.ntmps16
      go_wp2
      go_ret
      exact ⟨rfl, rfl⟩
  · rw [dayB_no (by omega)]
    go_enter Tryd.func16, Tryd.ntmps16
    go_wp2
    go_ret
    exact ⟨rfl, rfl⟩

theorem rwkd_any (n : Int) (w : World) (h1 : 0 ≤ n) (h2 : n ≤ 73048) : Calls Tryd.prog 21 #[.int .i64 n] w fun e w' => e = .returned (.int .i64 (wkd n)) ∧ w = w' := by
  have e : wkd n = (n + 5) % 7 := by unfold wkd; rw [if_pos ⟨h1, h2⟩]
  have t : (n + 5).tmod 7 = (n + 5) % 7 := Int.tmod_eq_emod_of_nonneg (by omega)
  rw [e]
  go_enter Tryd.func21, Tryd.ntmps21
  go_wp2
  go_ret
  exact ⟨rfl, rfl⟩

theorem fc_back (n y : Int) (k : Nat) (h : InMonth n y k) :
    fcV y ((k : Int) + 1) (n - NY y - cum y k + 1) = n ∧ fcE y ((k : Int) + 1) (n - NY y - cum y k + 1) = 0 := by
  have c1 := h.c1
  have c2 := h.c2
  have hc : cum y (k + 1) = cum y k + dim y ((k : Int) + 1) := rfl
  have hh : 1 ≤ n - NY y - cum y k + 1 ∧ n - NY y - cum y k + 1 ≤ dim y ((k : Int) + 1) := by omega
  unfold fcV fcE
  rw [if_pos hh, if_pos hh]
  refine ⟨?_, rfl⟩
  unfold num
  rw [show ((k : Int) + 1 - 1).toNat = k by omega]
  omega

/-- What holds at the head of a round. -/
def Civ (w : World) (g : Nat) (x0 x1 : Int) (W : World) : Prop := Below w.heap.size w W ∧ Tabs W ∧ g < W.heap.size ∧ w.heap.size ≤ g ∧ W.cell? ⟨g, 0, none⟩ = some (.int .i64 x0) ∧ W.cell? ⟨g, 1, none⟩ = some (.int .i64 x1)
theorem Civ.keep {w : World} {g : Nat} {x0 x1 : Int} {W W' : World} (h : Civ w g x0 x1 W) (hb : Below W.heap.size W W') : Civ w g x0 x1 W' := by
  obtain ⟨a, b, c, d, e, f⟩ := h
  exact ⟨a.trans (hb.mono a.size), b.keep hb, Nat.lt_of_lt_of_le c hb.size, d, (hb.cell (p := ⟨g, 0, none⟩) c).trans e, (hb.cell (p := ⟨g, 1, none⟩) c).trans f⟩
theorem Civ.grow {w : World} {g : Nat} {x0 x1 : Int} {W : World} (h : Civ w g x0 x1 W) (o : Obj) : Civ w g x0 x1 (W.alloc o) := h.keep ((Below.refl _ _).alloc (Nat.le_refl _) o)

/-- The cells of a date lie in block b. -/
def Three (b : Nat) (y m d : Int) (W : World) : Prop := W.cell? ⟨b, 0, none⟩ = some (.int .i64 y) ∧ W.cell? ⟨b, 1, none⟩ = some (.int .i64 m) ∧ W.cell? ⟨b, 2, none⟩ = some (.int .i64 d) ∧ b < W.heap.size
theorem Three.keep {b : Nat} {y m d : Int} {W W' : World} (h : Three b y m d W) (hb : Below W.heap.size W W') : Three b y m d W' := by
  obtain ⟨e0, e1, e2, c⟩ := h
  exact ⟨(hb.cell (p := ⟨b, 0, none⟩) c).trans e0, (hb.cell (p := ⟨b, 1, none⟩) c).trans e1, (hb.cell (p := ⟨b, 2, none⟩) c).trans e2, Nat.lt_of_lt_of_le c hb.size⟩
theorem three_new (W : World) (y m d : Int) (t : TypeId) : Three W.heap.size y m d (W.alloc (.cells #[.int .i64 y, .int .i64 m, .int .i64 d] t)) := by
  refine ⟨?_, ?_, ?_, by simp⟩ <;> simp [World.cell?_alloc_new]
theorem Three.grow {b : Nat} {y m d : Int} {W : World} (h : Three b y m d W) (o : Obj) : Three b y m d (W.alloc o) := h.keep ((Below.refl _ _).alloc (Nat.le_refl _) o)

set_option maxRecDepth 20000 in
theorem dateCivil_walk (a0 : Int) (w : World) (w0 : (Lit.int .i64 a0).wf = true) (hL : laidMetH Tryd.prog laid w) :
    Calls Tryd.prog 3 #[.int .i64 a0] w fun e w' => e = .returned (.bool true) ∧ Below w.heap.size w w' := by
  have T := tabs_of hL
  have kn := hide (known_any w T)
  have TT := hide T
  have dv := fun w => hide (day_any a0 w)
  clear T hL w0
  generalize dayV a0 = a1 at *
  go_enter Tryd.func3, Tryd.ntmps3
  go_wp2_with fail
  refine kn.out.mono ?_
  rintro e w1 ⟨rfl, hb⟩
  have T1 := hide (TT.out.keep hb)
  have HB := hide hb
  clear hb
  go_wp2_with fail
  refine (dv _).out.mono ?_
  rintro e w2 ⟨rfl, rfl⟩
  go_wp2_with fail
  have HC1 : Hid (Civ w w1.heap.size a0 a1 (w1.alloc (.cells #[.int .i64 a0, .int .i64 a1] 3))) := hide ⟨HB.out.alloc HB.out.size _, T1.out.keep ((Below.refl _ _).alloc (Nat.le_refl _) _), by simp, HB.out.size, by simp [World.cell?_alloc_new], by simp [World.cell?_alloc_new]⟩
  generalize w1.alloc (.cells #[.int .i64 a0, .int .i64 a1] 3) = W0 at *
  generalize w1.heap.size = g at *
  go_loopw [17] (fun s17 wr => ∃ k : Nat, k ≤ 2 ∧ s17 = .int .i64 k ∧ Hid (Civ w g a0 a1 wr)) (fun s17 _ => 2 - (intOf s17).toNat)
  case atStart => exact ⟨0, by decide, rfl, HC1⟩
  case round =>
    obtain ⟨k, hk, rfl, HC⟩ := hrel
    have h3 : k = 0 ∨ k = 1 ∨ k = 2 := by omega
    rcases h3 with rfl | rfl | rfl
    · have hc := HC.out.2.2.2.2.1
      have v := fun W => hide (valid_any a0 W)
      have rd := fun W => hide (rday_any a0 W)
      have wk := fun W => hide (wkd_any a0 W)
      by_cases hr : 0 ≤ a0 ∧ a0 ≤ 73048
      · obtain ⟨y, k, IM⟩ := inMonth_ex a0 hr.1 hr.2
        have tc := fun W T => hide (tc_in a0 y k W T IM)
        have rto := fun W => hide (rto_in a0 y k W IM)
        have fc := fun W T => hide (fc_any y ((k : Int) + 1) (a0 - NY y - cum y k + 1) W T)
        obtain ⟨b1, b2⟩ := fc_back a0 y k IM
        rw [b1, b2] at fc
        have rwk := fun W => hide (rwkd_any a0 W hr.1 hr.2)
        have db := dayB_yes (n := a0) hr.1 hr.2
        rw [db] at v rd
        clear b1 b2 IM db
        generalize a0 - NY y - cum y k + 1 = D at *
        generalize (k : Int) + 1 = M at *
        generalize wkd a0 = K at *
        go_wp2_with fail
        refine (tc _ HC.out.2.1).out.mono ?_
        rintro e w4 ⟨rfl, hb⟩
        have HC4 := hide ((HC.out.keep hb).grow (.cells #[.int .i64 y, .int .i64 M, .int .i64 D] 26))
        have H3 := hide (three_new w4 y M D 26)
        clear hb
        go_wp2_with fail
        generalize w4.alloc (.cells #[.int .i64 y, .int .i64 M, .int .i64 D] 26) = W4 at *
        generalize w4.heap.size = c at *
        refine (rd _).out.mono ?_
        rintro e w5 ⟨rfl, rfl⟩
        go_wp2_with fail
        refine (rto _).out.mono ?_
        rintro e w5 ⟨rfl, hb⟩
        have HC5 := hide ((HC4.out.keep hb).grow (.cells #[.int .i64 y, .int .i64 M, .int .i64 D] 32))
        have H35 := hide ((H3.out.keep hb).grow (.cells #[.int .i64 y, .int .i64 M, .int .i64 D] 32))
        have HW5 := hide (three_new w5 y M D 32)
        obtain ⟨g0, g1, g2, glt⟩ := H3.out.keep hb
        clear hb
        go_wp2_with fail
        refine (fc _ HC5.out.2.1).out.mono ?_
        rintro e w6 ⟨rfl, hb⟩
        have HC6 := hide (HC5.out.keep hb)
        obtain ⟨p0, p1, p2, _⟩ := H35.out.keep hb
        obtain ⟨r0, r1, r2, _⟩ := HW5.out.keep hb
        clear hb g0 g1 g2 glt
        generalize w5.heap.size = cw at *
        go_wp2_with fail
        refine (v _).out.mono ?_
        rintro e w7 ⟨rfl, rfl⟩
        go_wp2_with fail
        refine (wk _).out.mono ?_
        rintro e w8 ⟨rfl, rfl⟩
        go_wp2_with fail
        refine (rwk _).out.mono ?_
        rintro e w9 ⟨rfl, rfl⟩
        go_wp2_with fail
        go_roundw
        case rel => exact ⟨1, by decide, rfl, HC6⟩
        case measure => simp [intOf]
      · have tc := fun W => hide (tc_no a0 W (by omega))
        have db := dayB_no (n := a0) (by omega)
        have hw : wkd a0 = -1 := by unfold wkd; rw [if_neg hr]
        rw [db] at v rd
        rw [hw] at wk
        clear hr db hw
        go_wp2_with fail
        refine (tc _).out.mono ?_
        rintro e w4 ⟨rfl, hb⟩
        have HC4 := fun o => hide ((HC.out.keep hb).grow o)
        clear hb
        go_wp2_with fail
        refine (rd _).out.mono ?_
        rintro e w5 ⟨rfl, rfl⟩
        go_wp2_with fail
        refine (v _).out.mono ?_
        rintro e w6 ⟨rfl, rfl⟩
        go_wp2_with fail
        refine (wk _).out.mono ?_
        rintro e w7 ⟨rfl, rfl⟩
        go_wp2_with fail
        go_roundw
        case rel => exact ⟨1, by decide, rfl, HC4 _⟩
        case measure => simp [intOf]
    · have hc := HC.out.2.2.2.2.2
      have v := fun W => hide (valid_any a1 W)
      have rd := fun W => hide (rday_any a1 W)
      have wk := fun W => hide (wkd_any a1 W)
      by_cases hr : 0 ≤ a1 ∧ a1 ≤ 73048
      · obtain ⟨y, k, IM⟩ := inMonth_ex a1 hr.1 hr.2
        have tc := fun W T => hide (tc_in a1 y k W T IM)
        have rto := fun W => hide (rto_in a1 y k W IM)
        have fc := fun W T => hide (fc_any y ((k : Int) + 1) (a1 - NY y - cum y k + 1) W T)
        obtain ⟨b1, b2⟩ := fc_back a1 y k IM
        rw [b1, b2] at fc
        have rwk := fun W => hide (rwkd_any a1 W hr.1 hr.2)
        have db := dayB_yes (n := a1) hr.1 hr.2
        rw [db] at v rd
        clear b1 b2 IM db
        generalize a1 - NY y - cum y k + 1 = D at *
        generalize (k : Int) + 1 = M at *
        generalize wkd a1 = K at *
        go_wp2_with fail
        refine (tc _ HC.out.2.1).out.mono ?_
        rintro e w4 ⟨rfl, hb⟩
        have HC4 := hide ((HC.out.keep hb).grow (.cells #[.int .i64 y, .int .i64 M, .int .i64 D] 26))
        have H3 := hide (three_new w4 y M D 26)
        clear hb
        go_wp2_with fail
        generalize w4.alloc (.cells #[.int .i64 y, .int .i64 M, .int .i64 D] 26) = W4 at *
        generalize w4.heap.size = c at *
        refine (rd _).out.mono ?_
        rintro e w5 ⟨rfl, rfl⟩
        go_wp2_with fail
        refine (rto _).out.mono ?_
        rintro e w5 ⟨rfl, hb⟩
        have HC5 := hide ((HC4.out.keep hb).grow (.cells #[.int .i64 y, .int .i64 M, .int .i64 D] 32))
        have H35 := hide ((H3.out.keep hb).grow (.cells #[.int .i64 y, .int .i64 M, .int .i64 D] 32))
        have HW5 := hide (three_new w5 y M D 32)
        obtain ⟨g0, g1, g2, glt⟩ := H3.out.keep hb
        clear hb
        go_wp2_with fail
        refine (fc _ HC5.out.2.1).out.mono ?_
        rintro e w6 ⟨rfl, hb⟩
        have HC6 := hide (HC5.out.keep hb)
        obtain ⟨p0, p1, p2, _⟩ := H35.out.keep hb
        obtain ⟨r0, r1, r2, _⟩ := HW5.out.keep hb
        clear hb g0 g1 g2 glt
        generalize w5.heap.size = cw at *
        go_wp2_with fail
        refine (v _).out.mono ?_
        rintro e w7 ⟨rfl, rfl⟩
        go_wp2_with fail
        refine (wk _).out.mono ?_
        rintro e w8 ⟨rfl, rfl⟩
        go_wp2_with fail
        refine (rwk _).out.mono ?_
        rintro e w9 ⟨rfl, rfl⟩
        go_wp2_with fail
        go_roundw
        case rel => exact ⟨2, by decide, rfl, HC6⟩
        case measure => simp [intOf]
      · have tc := fun W => hide (tc_no a1 W (by omega))
        have db := dayB_no (n := a1) (by omega)
        have hw : wkd a1 = -1 := by unfold wkd; rw [if_neg hr]
        rw [db] at v rd
        rw [hw] at wk
        clear hr db hw
        go_wp2_with fail
        refine (tc _).out.mono ?_
        rintro e w4 ⟨rfl, hb⟩
        have HC4 := fun o => hide ((HC.out.keep hb).grow o)
        clear hb
        go_wp2_with fail
        refine (rd _).out.mono ?_
        rintro e w5 ⟨rfl, rfl⟩
        go_wp2_with fail
        refine (v _).out.mono ?_
        rintro e w6 ⟨rfl, rfl⟩
        go_wp2_with fail
        refine (wk _).out.mono ?_
        rintro e w7 ⟨rfl, rfl⟩
        go_wp2_with fail
        go_roundw
        case rel => exact ⟨2, by decide, rfl, HC4 _⟩
        case measure => simp [intOf]
    · go_wp2_with fail
      go_ret
      exact ⟨rfl, HC.out.1⟩
end Go.Proofs.YtahfjhmgmpbmkacDoor
