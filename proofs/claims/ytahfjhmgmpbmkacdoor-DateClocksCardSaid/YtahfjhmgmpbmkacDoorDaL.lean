/-
  The text of a point in time: plain facts; the contract of FormatClock.
-/
import Derived.Test.YtahfjhmgmpbmkacDoorDaJ
namespace Go.Proofs.YtahfjhmgmpbmkacDoor
open Go.RowKit
set_option linter.unusedVariables false

/-- The text of a point in time, byte by byte. -/
def ctxt (y m d h i : Int) : List UInt8 := txt y m d ++ [32, dgt (h / 10), dgt (h % 10), 58, dgt (i / 10), dgt (i % 10)]
theorem sixteen {s : ByteArray} (h : s.size = 16) : ∃ l a b c d e f, s = ⟨⟨l ++ [a, b, c, d, e, f]⟩⟩ ∧ l.length = 10 := by
  obtain ⟨⟨l⟩⟩ := s
  have h' : l.length = 16 := h
  match l, h' with
  | [a, b, c, d, e, f, g, i, j, k, a', b', c', d', e', f'], _ => exact ⟨[a, b, c, d, e, f, g, i, j, k], a', b', c', d', e', f', rfl, rfl⟩
theorem at_tail {l r : List UInt8} (hl : l.length = 10) (k : Nat) : gB ⟨⟨l ++ r⟩⟩ (10 + k) = ((r.getD k 0).toNat : Int) := by
  show (((l ++ r).getD (10 + k) 0).toNat : Int) = _
  rw [List.getD, List.getD, List.getElem?_append_right (by omega), show 10 + k - l.length = k by omega]
theorem form_ctxt {s : ByteArray} (h : HasForm s cform) : s = ⟨⟨ctxt (nv s 0 4) (nv s 5 2) (nv s 8 2) (nv s 11 2) (nv s 14 2)⟩⟩ := by
  have hs : s.size = 16 := h.1
  have t := form_txt (cd_form h)
  rw [nv_ext s 0 4 hs (by omega), nv_ext s 5 2 hs (by omega), nv_ext s 8 2 hs (by omega)] at t
  obtain ⟨l, c0, c1, c2, c3, c4, c5, rfl, hl⟩ := sixteen hs
  have e : (⟨⟨l ++ [c0, c1, c2, c3, c4, c5]⟩⟩ : ByteArray).extract 0 10 = ⟨⟨l⟩⟩ := by
    have := Go.ByteArray.extract_mk (l ++ [c0, c1, c2, c3, c4, c5]) 0 10
    rw [this]
    simp [hl]
  rw [e] at t
  have t' : l = txt (nv ⟨⟨l ++ [c0, c1, c2, c3, c4, c5]⟩⟩ 0 4) (nv ⟨⟨l ++ [c0, c1, c2, c3, c4, c5]⟩⟩ 5 2) (nv ⟨⟨l ++ [c0, c1, c2, c3, c4, c5]⟩⟩ 8 2) := by
    injection t with t; injection t with t
  have g0 := at_tail (r := [c0, c1, c2, c3, c4, c5]) hl 0
  have g1 := at_tail (r := [c0, c1, c2, c3, c4, c5]) hl 1
  have g2 := at_tail (r := [c0, c1, c2, c3, c4, c5]) hl 2
  have g3 := at_tail (r := [c0, c1, c2, c3, c4, c5]) hl 3
  have g4 := at_tail (r := [c0, c1, c2, c3, c4, c5]) hl 4
  have g5 := at_tail (r := [c0, c1, c2, c3, c4, c5]) hl 5
  have d1 := cdig h 11 (by omega) (by omega) (by omega) (by omega) (by omega)
  have d2 := cdig h 12 (by omega) (by omega) (by omega) (by omega) (by omega)
  have d4 := cdig h 14 (by omega) (by omega) (by omega) (by omega) (by omega)
  have d5 := cdig h 15 (by omega) (by omega) (by omega) (by omega) (by omega)
  have e0 : c0 = 32 := by
    rcases h.2 10 (by omega) with ⟨a, _⟩ | ⟨_, b⟩
    · exact absurd a (by decide)
    · exact u8_of (g0.symm.trans b)
  have e3 : c3 = 58 := by
    rcases h.2 13 (by omega) with ⟨a, _⟩ | ⟨_, b⟩
    · exact absurd a (by decide)
    · exact u8_of (g3.symm.trans b)
  have n1 : nv ⟨⟨l ++ [c0, c1, c2, c3, c4, c5]⟩⟩ 11 2 = 10 * ((c1.toNat : Int) - 48) + ((c2.toNat : Int) - 48) := by
    simp only [nv, Nat.add_zero]
    have a1 : gB ⟨⟨l ++ [c0, c1, c2, c3, c4, c5]⟩⟩ 11 = (c1.toNat : Int) := g1
    have a2 : gB ⟨⟨l ++ [c0, c1, c2, c3, c4, c5]⟩⟩ (11 + 1) = (c2.toNat : Int) := g2
    rw [a1, a2]; omega
  have n2 : nv ⟨⟨l ++ [c0, c1, c2, c3, c4, c5]⟩⟩ 14 2 = 10 * ((c4.toNat : Int) - 48) + ((c5.toNat : Int) - 48) := by
    simp only [nv, Nat.add_zero]
    have a1 : gB ⟨⟨l ++ [c0, c1, c2, c3, c4, c5]⟩⟩ 14 = (c4.toNat : Int) := g4
    have a2 : gB ⟨⟨l ++ [c0, c1, c2, c3, c4, c5]⟩⟩ (14 + 1) = (c5.toNat : Int) := g5
    rw [a1, a2]; omega
  have d1' : 48 ≤ (c1.toNat : Int) ∧ (c1.toNat : Int) ≤ 57 := by rw [show gB ⟨⟨l ++ [c0, c1, c2, c3, c4, c5]⟩⟩ 11 = (c1.toNat : Int) from g1] at d1; exact d1
  have d2' : 48 ≤ (c2.toNat : Int) ∧ (c2.toNat : Int) ≤ 57 := by rw [show gB ⟨⟨l ++ [c0, c1, c2, c3, c4, c5]⟩⟩ 12 = (c2.toNat : Int) from g2] at d2; exact d2
  have d4' : 48 ≤ (c4.toNat : Int) ∧ (c4.toNat : Int) ≤ 57 := by rw [show gB ⟨⟨l ++ [c0, c1, c2, c3, c4, c5]⟩⟩ 14 = (c4.toNat : Int) from g4] at d4; exact d4
  have d5' : 48 ≤ (c5.toNat : Int) ∧ (c5.toNat : Int) ≤ 57 := by rw [show gB ⟨⟨l ++ [c0, c1, c2, c3, c4, c5]⟩⟩ 15 = (c5.toNat : Int) from g5] at d5; exact d5
  unfold ctxt
  rw [← t', n1, n2]
  rw [dgt_of (c := c1) d1'.1 (by omega), dgt_of (c := c2) d2'.1 (by omega), dgt_of (c := c4) d4'.1 (by omega), dgt_of (c := c5) d5'.1 (by omega), e0, e3]

theorem dd_one (w : World) (g : Nat) (m x : Int) (W : World) (x1 : 0 ≤ x) (x2 : x ≤ 99) (c1 : W.cell? ⟨g, 1, none⟩ = some (.int .i64 m)) (hg : g < W.heap.size) (B : Hid (Below w.heap.size w W)) :
    Calls Tryd.prog 49 #[.int .i64 x] W fun e w' => e = .returned (.string ⟨⟨[dgt (x / 10), dgt (x % 10)]⟩⟩) ∧ w'.cell? ⟨g, 1, none⟩ = some (.int .i64 m) ∧ g < w'.heap.size ∧ Hid (Below w.heap.size w w') := by
  refine (dd_any x W x1 x2).mono ?_
  rintro e w' ⟨rfl, hB⟩
  exact ⟨rfl, (hB.cell (p := ⟨g, 1, none⟩) hg).trans c1, Nat.lt_of_lt_of_le hg hB.size, hide (B.out.trans (hB.mono B.out.size))⟩

set_option maxHeartbeats 4000000 in
set_option maxRecDepth 20000 in
theorem fcl_in (n y m : Int) (k : Nat) (w : World) (T : Tabs w) (h : InMonth n y k) (m1 : 0 ≤ m) (m2 : m ≤ 1439) :
    Calls Tryd.prog 41 #[.agg #[.int .i64 n, .int .i64 m]] w fun e w' => e = .returned (.tuple #[.string ⟨⟨ctxt y ((k : Int) + 1) (n - NY y - cum y k + 1) (m / 60) (m % 60)⟩⟩, .int .i64 0]) ∧ Below w.heap.size w w' := by
  have fm := fun w T => hide (fm_txt n y k w T h)
  have ll : (txt y ((k : Int) + 1) (n - NY y - cum y k + 1)).length = 10 := rfl
  unfold ctxt
  generalize txt y ((k : Int) + 1) (n - NY y - cum y k + 1) = L at *
  have B0 := hide ((Below.refl w.heap.size w).alloc (Nat.le_refl _) (.cells #[.int .i64 n, .int .i64 m] 55))
  have T0 := hide (T.keep B0.out)
  have c1 : (w.alloc (.cells #[.int .i64 n, .int .i64 m] 55)).cell? ⟨w.heap.size, 1, none⟩ = some (.int .i64 m) := by simp [go_sem]
  have g1 : w.heap.size < (w.alloc (.cells #[.int .i64 n, .int .i64 m] 55)).heap.size := by simp
  clear T h
  have htx : (((((⟨⟨L⟩⟩ : ByteArray) ++ ⟨#[32]⟩) ++ ⟨⟨[dgt (m / 60 / 10), dgt (m / 60 % 10)]⟩⟩) ++ ⟨#[58]⟩) ++ ⟨⟨[dgt (m % 60 / 10), dgt (m % 60 % 10)]⟩⟩) = ⟨⟨L ++ [32, dgt (m / 60 / 10), dgt (m / 60 % 10), 58, dgt (m % 60 / 10), dgt (m % 60 % 10)]⟩⟩ := by
    apply ByteArray.ext
    simp [ByteArray.data_append]
  have HG0 := hide htx
  clear htx
  go_enter Tryd.func41, Tryd.ntmps41
  go_wp2_with fail
  refine (fm _ T0.out).out.mono ?_
  rintro e w1 ⟨rfl, hb⟩
  have d1 := (hb.cell (p := ⟨w.heap.size, 1, none⟩) g1).trans c1
  have g2 := Nat.lt_of_lt_of_le g1 hb.size
  have B1 := hide (B0.out.trans (hb.mono B0.out.size))
  clear hb c1 g1
  go_wp2_with fail
  have d1' : w1.drew.cell? ⟨w.heap.size, 1, none⟩ = some (.int .i64 m) := d1
  have g2' : w.heap.size < w1.drew.heap.size := g2
  have B1' : Hid (Below w.heap.size w w1.drew) := hide B1.out.drew
  have k1 := fun W a b c => dd_one w w.heap.size m (m / 60) W (by omega) (by omega) a b c
  have k2 := fun W a b c => dd_one w w.heap.size m (m % 60) W (by omega) (by omega) a b c
  have l0 : (⟨⟨L⟩⟩ : ByteArray).size = 10 := ll
  have l2 : (⟨⟨[dgt (m / 60 / 10), dgt (m / 60 % 10)]⟩⟩ : ByteArray).size = 2 := rfl
  have l3 : (⟨⟨[dgt (m % 60 / 10), dgt (m % 60 % 10)]⟩⟩ : ByteArray).size = 2 := rfl
  have l4 : (⟨#[32]⟩ : ByteArray).size = 1 := rfl
  have l5 : (⟨#[58]⟩ : ByteArray).size = 1 := rfl
  generalize (⟨⟨L⟩⟩ : ByteArray) = S0 at *
  generalize (⟨⟨[dgt (m / 60 / 10), dgt (m / 60 % 10)]⟩⟩ : ByteArray) = SH at *
  generalize (⟨⟨[dgt (m % 60 / 10), dgt (m % 60 % 10)]⟩⟩ : ByteArray) = SM at *
  obtain ⟨S1, h1⟩ : ∃ S, S = S0 ++ ⟨#[32]⟩ := ⟨_, rfl⟩
  obtain ⟨S2, h2⟩ : ∃ S, S = S1 ++ SH := ⟨_, rfl⟩
  obtain ⟨S3, h3⟩ : ∃ S, S = S2 ++ ⟨#[58]⟩ := ⟨_, rfl⟩
  obtain ⟨S4, h4⟩ : ∃ S, S = S3 ++ SM := ⟨_, rfl⟩
  have HG := hide (show S4 = _ from (by rw [h4, h3, h2, h1] : S4 = _).trans HG0.out)
  have z1 : S1.size = S0.size + 1 := by rw [h1, ByteArray.size_append, l4]
  have z2 : S2.size = S1.size + 2 := by rw [h2, ByteArray.size_append, l2]
  have z3 : S3.size = S2.size + 1 := by rw [h3, ByteArray.size_append, l5]
  have A1 : ∀ w, (Op.stringOp .add S0 ⟨#[32]⟩).run Tryd.prog w = .ok (.string S1) w := fun w => by rw [h1]; exact run_string_add_sum w _ _ (by omega)
  have A2 : ∀ w, (Op.stringOp .add S1 SH).run Tryd.prog w = .ok (.string S2) w := fun w => by rw [h2]; exact run_string_add_sum w _ _ (by omega)
  have A3 : ∀ w, (Op.stringOp .add S2 ⟨#[58]⟩).run Tryd.prog w = .ok (.string S3) w := fun w => by rw [h3]; exact run_string_add_sum w _ _ (by omega)
  have A4 : ∀ w, (Op.stringOp .add S3 SM).run Tryd.prog w = .ok (.string S4) w := fun w => by rw [h4]; exact run_string_add_sum w _ _ (by omega)
  have y1 : m.tdiv 60 = m / 60 := Int.tdiv_eq_ediv_of_nonneg m1
  have y2 : m.tmod 60 = m % 60 := Int.tmod_eq_emod_of_nonneg m1
  have y3 : IntKind.i64.wrap (m / 60) = m / 60 := IntWalk.i64_in _ (by omega)
  have y4 : IntKind.i64.wrap (m.tdiv 60) = m / 60 := by rw [y1, y3]
  clear HG0 ll l0 l2 l3 l4 l5 h1 h2 h3 h4 z1 z2 z3 fm B1 d1 g2 T0 B0
  go_region_held3 (fun w' => w'.cell? ⟨w.heap.size, 1, none⟩ = some (.int .i64 m)) (first | exact d1' | assumption) (first | (go_at_call 49; (with_reducible refine (k1 _ (by assumption) (by assumption) (by assumption)).mono ?_); rintro e w' ⟨rfl, q0, q1, q2⟩) | (go_at_call 49; (with_reducible refine (k2 _ (by assumption) (by assumption) (by assumption)).mono ?_); rintro e w' ⟨rfl, q0, q1, q2⟩))
  all_goals go_wp2_with fail
  all_goals go_ret2
  all_goals exact ⟨by rw [← HG.out]; rfl, q2.out⟩
end Go.Proofs.YtahfjhmgmpbmkacDoor
