/-
  Contracts at this translation: FormatClock where it answers nothing; the reference's FormatClock; ParseClock of a text that FormatClock writes.
-/
import Derived.Test.YtahfjhmgmpbmkacDoorDaN
import Derived.Test.YtahfjhmgmpbmkacDoorDateTextsWalk
namespace Go.Proofs.YtahfjhmgmpbmkacDoor
open Go.RowKit
set_option linter.unusedVariables false

set_option maxHeartbeats 4000000 in
theorem fcl_noday (n m : Int) (w : World) (h : n < 0 ∨ 73048 < n) : Calls Tryd.prog 41 #[.agg #[.int .i64 n, .int .i64 m]] w fun e w' => e = .returned (.tuple #[.string ⟨#[]⟩, .int .i64 2]) ∧ Below w.heap.size w w' := by
  have fm := fun w => hide (fm_no n w h)
  have B0 := hide ((Below.refl w.heap.size w).alloc (Nat.le_refl _) (.cells #[.int .i64 n, .int .i64 m] 55))
  clear h
  go_enter Tryd.func41, Tryd.ntmps41
  go_wp2_with fail
  refine (fm _).out.mono ?_
  rintro e w1 ⟨rfl, hb⟩
  have B1 := hide (B0.out.trans (hb.mono B0.out.size))
  clear hb
  go_wp2_with fail
  go_ret2
  exact ⟨rfl, B1.out⟩
set_option maxHeartbeats 4000000 in
theorem fcl_nomin (n y m : Int) (k : Nat) (w : World) (T : Tabs w) (h : InMonth n y k) (hm : m < 0 ∨ 1439 < m) : Calls Tryd.prog 41 #[.agg #[.int .i64 n, .int .i64 m]] w fun e w' => e = .returned (.tuple #[.string ⟨#[]⟩, .int .i64 2]) ∧ Below w.heap.size w w' := by
  have fm := fun w T => hide (fm_txt n y k w T h)
  generalize txt y ((k : Int) + 1) (n - NY y - cum y k + 1) = L at *
  have B0 := hide ((Below.refl w.heap.size w).alloc (Nat.le_refl _) (.cells #[.int .i64 n, .int .i64 m] 55))
  have T0 := hide (T.keep B0.out)
  have c1 : (w.alloc (.cells #[.int .i64 n, .int .i64 m] 55)).cell? ⟨w.heap.size, 1, none⟩ = some (.int .i64 m) := by simp [go_sem]
  have g1 : w.heap.size < (w.alloc (.cells #[.int .i64 n, .int .i64 m] 55)).heap.size := by simp
  clear T h
  rcases hm with hm | hm
  · go_enter Tryd.func41, Tryd.ntmps41
    go_wp2_with fail
    refine (fm _ T0.out).out.mono ?_
    rintro e w1 ⟨rfl, hb⟩
    have d1 := (hb.cell (p := ⟨w.heap.size, 1, none⟩) g1).trans c1
    have B1 := hide (B0.out.trans (hb.mono B0.out.size))
    clear hb c1 g1
    go_wp2_with fail
    go_ret2
    exact ⟨rfl, B1.out⟩
  · have hm0 : ¬ m < 0 := by omega
    go_enter Tryd.func41, Tryd.ntmps41
    go_wp2_with fail
    refine (fm _ T0.out).out.mono ?_
    rintro e w1 ⟨rfl, hb⟩
    have d1 := (hb.cell (p := ⟨w.heap.size, 1, none⟩) g1).trans c1
    have B1 := hide (B0.out.trans (hb.mono B0.out.size))
    clear hb c1 g1
    go_wp2_with fail
    go_ret2
    exact ⟨rfl, B1.out⟩

set_option maxHeartbeats 4000000 in
set_option maxRecDepth 20000 in
theorem rfcl_in (n y m : Int) (k : Nat) (w : World) (T : Tabs w) (h : InMonth n y k) (m1 : 0 ≤ m) (m2 : m ≤ 1439) :
    Calls Tryd.prog 43 #[.int .i64 n, .int .i64 m] w fun e w' => e = .returned (.string ⟨⟨ctxt y ((k : Int) + 1) (n - NY y - cum y k + 1) (m / 60) (m % 60)⟩⟩) ∧ Below w.heap.size w w' := by
  have fm := fun w T => hide (rfm_in n y k w T h)
  have ll : (txt y ((k : Int) + 1) (n - NY y - cum y k + 1)).length = 10 := rfl
  unfold ctxt
  generalize txt y ((k : Int) + 1) (n - NY y - cum y k + 1) = L at *
  have r1 : ∀ w, Calls Tryd.prog 52 #[.int .i64 (m / 60), .int .i64 2] w fun e w' => e = .returned (.string ⟨⟨dl (m / 60) 2⟩⟩) ∧ Below w.heap.size w w' := fun w => rdig_any (m / 60) 2 w (by omega) (by omega) (by omega)
  have r2 : ∀ w, Calls Tryd.prog 52 #[.int .i64 (m % 60), .int .i64 2] w fun e w' => e = .returned (.string ⟨⟨dl (m % 60) 2⟩⟩) ∧ Below w.heap.size w w' := fun w => rdig_any (m % 60) 2 w (by omega) (by omega) (by omega)
  rw [dl2 (x := m / 60) (by omega) (by omega)] at r1
  rw [dl2 (x := m % 60) (by omega) (by omega)] at r2
  have htx : (((((⟨⟨L⟩⟩ : ByteArray) ++ ⟨#[32]⟩) ++ ⟨⟨[dgt (m / 60 / 10), dgt (m / 60 % 10)]⟩⟩) ++ ⟨#[58]⟩) ++ ⟨⟨[dgt (m % 60 / 10), dgt (m % 60 % 10)]⟩⟩) = ⟨⟨L ++ [32, dgt (m / 60 / 10), dgt (m / 60 % 10), 58, dgt (m % 60 / 10), dgt (m % 60 % 10)]⟩⟩ := by
    apply ByteArray.ext
    simp [ByteArray.data_append]
  have HG0 := hide htx
  clear htx
  have l0 : (⟨⟨L⟩⟩ : ByteArray).size = 10 := ll
  have l2 : (⟨⟨[dgt (m / 60 / 10), dgt (m / 60 % 10)]⟩⟩ : ByteArray).size = 2 := rfl
  have l3 : (⟨⟨[dgt (m % 60 / 10), dgt (m % 60 % 10)]⟩⟩ : ByteArray).size = 2 := rfl
  have l4 : (⟨#[32]⟩ : ByteArray).size = 1 := rfl
  have l5 : (⟨#[58]⟩ : ByteArray).size = 1 := rfl
  generalize (⟨⟨L⟩⟩ : ByteArray) = S0 at *
  generalize (⟨⟨[dgt (m / 60 / 10), dgt (m / 60 % 10)]⟩⟩ : ByteArray) = SH at *
  generalize (⟨⟨[dgt (m % 60 / 10), dgt (m % 60 % 10)]⟩⟩ : ByteArray) = SM at *
  obtain ⟨S1, h1⟩ : ∃ S, S = S0 ++ ⟨#[32]⟩ := ⟨_, rfl⟩
  obtain ⟨S2, h2⟩ : ∃ S, S = S1 ++ SH := ⟨_, rfl⟩
  obtain ⟨S3, h3⟩ : ∃ S, S = S2 ++ ⟨#[58]⟩ := ⟨_, rfl⟩
  obtain ⟨S4, h4⟩ : ∃ S, S = S3 ++ SM := ⟨_, rfl⟩
  have HG := hide (show S4 = _ from (by rw [h4, h3, h2, h1] : S4 = _).trans HG0.out)
  have z1 : S1.size = S0.size + 1 := by rw [h1, ByteArray.size_append, l4]
  have z2 : S2.size = S1.size + 2 := by rw [h2, ByteArray.size_append, l2]
  have z3 : S3.size = S2.size + 1 := by rw [h3, ByteArray.size_append, l5]
  have A1 : ∀ w, (Op.stringOp .add S0 ⟨#[32]⟩).run Tryd.prog w = .ok (.string S1) w := fun w => by rw [h1]; exact run_string_add_sum w _ _ (by omega)
  have A2 : ∀ w, (Op.stringOp .add S1 SH).run Tryd.prog w = .ok (.string S2) w := fun w => by rw [h2]; exact run_string_add_sum w _ _ (by omega)
  have A3 : ∀ w, (Op.stringOp .add S2 ⟨#[58]⟩).run Tryd.prog w = .ok (.string S3) w := fun w => by rw [h3]; exact run_string_add_sum w _ _ (by omega)
  have A4 : ∀ w, (Op.stringOp .add S3 SM).run Tryd.prog w = .ok (.string S4) w := fun w => by rw [h4]; exact run_string_add_sum w _ _ (by omega)
  have R1 := hide r1
  have R2 := hide r2
  clear HG0 ll l0 l2 l3 l4 l5 h1 h2 h3 h4 z1 z2 z3 r1 r2 h
  go_enter Tryd.func43, Tryd.ntmps43
  go_wp2_with fail
  refine (fm _ T).out.mono ?_
  rintro e w1 ⟨rfl, hb⟩
  have B1 := hide hb
  clear hb
  go_wp2_with fail
  refine (R1.out _).mono ?_
  rintro e w2 ⟨rfl, hb⟩
  have B2 := hide (B1.out.trans (hb.mono B1.out.size))
  clear hb
  go_wp2_with fail
  refine (R2.out _).mono ?_
  rintro e w3 ⟨rfl, hb⟩
  have B3 := hide (B2.out.trans (hb.mono B2.out.size))
  clear hb
  go_wp2_with fail
  go_ret
  exact ⟨by rw [← HG.out]; rfl, B3.out⟩

theorem gB_left (l r : List UInt8) (j : Nat) (h : j < l.length) : gB ⟨⟨l ++ r⟩⟩ j = gB ⟨⟨l⟩⟩ j := by
  show (((l ++ r).getD j 0).toNat : Int) = ((l.getD j 0).toNat : Int)
  rw [List.getD, List.getD, List.getElem?_append_left h]
theorem nv_left (l r : List UInt8) (a k : Nat) (h : a + k ≤ l.length) : nv ⟨⟨l ++ r⟩⟩ a k = nv ⟨⟨l⟩⟩ a k := by
  induction k with
  | zero => rfl
  | succ k ih => simp only [nv]; rw [ih (by omega), gB_left l r (a + k) (by omega)]
theorem cd_same (j : Nat) (h : j < 10) : gB cform j = gB dform j := by
  have : j = 0 ∨ j = 1 ∨ j = 2 ∨ j = 3 ∨ j = 4 ∨ j = 5 ∨ j = 6 ∨ j = 7 ∨ j = 8 ∨ j = 9 := by omega
  rcases this with rfl | rfl | rfl | rfl | rfl | rfl | rfl | rfl | rfl | rfl <;> rfl
/-- The text of a point in time has its form, and its numbers. -/
theorem ctxt_facts {y m d h i : Int} (q : In2 y m d) (h1 : 0 ≤ h) (h2 : h ≤ 99) (i1 : 0 ≤ i) (i2 : i ≤ 99) :
    HasForm ⟨⟨ctxt y m d h i⟩⟩ cform ∧ nv ⟨⟨ctxt y m d h i⟩⟩ 0 4 = y ∧ nv ⟨⟨ctxt y m d h i⟩⟩ 5 2 = m ∧ nv ⟨⟨ctxt y m d h i⟩⟩ 8 2 = d ∧ nv ⟨⟨ctxt y m d h i⟩⟩ 11 2 = h ∧ nv ⟨⟨ctxt y m d h i⟩⟩ 14 2 = i := by
  have tl : (txt y m d).length = 10 := rfl
  obtain ⟨n1, n2, n3⟩ := txt_nv q
  have a1 := dgt_val (x := h / 10) (by omega) (by omega)
  have a2 := dgt_val (x := h % 10) (by omega) (by omega)
  have a3 := dgt_val (x := i / 10) (by omega) (by omega)
  have a4 := dgt_val (x := i % 10) (by omega) (by omega)
  have g0 := at_tail (r := [32, dgt (h / 10), dgt (h % 10), 58, dgt (i / 10), dgt (i % 10)]) tl 0
  have g1 := at_tail (r := [32, dgt (h / 10), dgt (h % 10), 58, dgt (i / 10), dgt (i % 10)]) tl 1
  have g2 := at_tail (r := [32, dgt (h / 10), dgt (h % 10), 58, dgt (i / 10), dgt (i % 10)]) tl 2
  have g3 := at_tail (r := [32, dgt (h / 10), dgt (h % 10), 58, dgt (i / 10), dgt (i % 10)]) tl 3
  have g4 := at_tail (r := [32, dgt (h / 10), dgt (h % 10), 58, dgt (i / 10), dgt (i % 10)]) tl 4
  have g5 := at_tail (r := [32, dgt (h / 10), dgt (h % 10), 58, dgt (i / 10), dgt (i % 10)]) tl 5
  have e1 : gB ⟨⟨ctxt y m d h i⟩⟩ 11 = ((dgt (h / 10)).toNat : Int) := g1
  have e2 : gB ⟨⟨ctxt y m d h i⟩⟩ 12 = ((dgt (h % 10)).toNat : Int) := g2
  have e4 : gB ⟨⟨ctxt y m d h i⟩⟩ 14 = ((dgt (i / 10)).toNat : Int) := g4
  have e5 : gB ⟨⟨ctxt y m d h i⟩⟩ 15 = ((dgt (i % 10)).toNat : Int) := g5
  have e2' : gB ⟨⟨ctxt y m d h i⟩⟩ (11 + 1) = ((dgt (h % 10)).toNat : Int) := g2
  have e5' : gB ⟨⟨ctxt y m d h i⟩⟩ (14 + 1) = ((dgt (i % 10)).toNat : Int) := g5
  refine ⟨⟨rfl, fun j hj => ?_⟩, ?_, ?_, ?_, ?_, ?_⟩
  · have hj' : j < 16 := hj
    by_cases h10 : j < 10
    · have := (txt_form q).2 j h10
      rw [cd_same j h10]
      rw [show gB ⟨⟨ctxt y m d h i⟩⟩ j = gB ⟨⟨txt y m d⟩⟩ j from gB_left _ _ j h10]
      exact this
    · have c : j = 10 ∨ j = 11 ∨ j = 12 ∨ j = 13 ∨ j = 14 ∨ j = 15 := by omega
      rcases c with rfl | rfl | rfl | rfl | rfl | rfl
      · exact .inr ⟨by decide, g0⟩
      · exact suits_dig rfl (by rw [e1]; omega) (by rw [e1]; omega)
      · exact suits_dig rfl (by rw [e2]; omega) (by rw [e2]; omega)
      · exact .inr ⟨by decide, g3⟩
      · exact suits_dig rfl (by rw [e4]; omega) (by rw [e4]; omega)
      · exact suits_dig rfl (by rw [e5]; omega) (by rw [e5]; omega)
  · exact (nv_left _ _ 0 4 (by rw [tl]; decide)).trans n1
  · exact (nv_left _ _ 5 2 (by rw [tl]; decide)).trans n2
  · exact (nv_left _ _ 8 2 (by rw [tl]; decide)).trans n3
  · simp only [nv, Nat.add_zero]; rw [e1, e2']; omega
  · simp only [nv, Nat.add_zero]; rw [e4, e5']; omega
theorem pc_ctxt (n y m : Int) (k : Nat) (w : World) (T : Tabs w) (h : InMonth n y k) (m1 : 0 ≤ m) (m2 : m ≤ 1439) :
    Calls Tryd.prog 39 #[.string ⟨⟨ctxt y ((k : Int) + 1) (n - NY y - cum y k + 1) (m / 60) (m % 60)⟩⟩] w fun e w' => e = .returned (.tuple #[.agg #[.int .i64 n, .int .i64 m], .int .i64 0]) ∧ Below w.heap.size w w' := by
  obtain ⟨f, a, b, c, d, e⟩ := ctxt_facts (h := m / 60) (i := m % 60) (in2_of h) (by omega) (by omega) (by omega) (by omega)
  obtain ⟨p, q⟩ := fc_back n y k h
  have := pc_yes _ w T f (by rw [a, b, c, q]) (by rw [d]; omega) (by rw [e]; omega)
  rw [a, b, c, p, d, e, show m / 60 * 60 + m % 60 = m by omega] at this
  exact this
end Go.Proofs.YtahfjhmgmpbmkacDoor
