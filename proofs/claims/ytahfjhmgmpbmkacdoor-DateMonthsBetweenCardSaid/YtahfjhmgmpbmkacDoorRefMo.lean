/-
  The months by their numbers; contract of the reference's Months at this translation, at two day numbers of which the first is not after the second; monthsUntil and MonthsBetween elsewhere.
-/
import Derived.Test.YtahfjhmgmpbmkacDoorRefAm
namespace Go.Proofs.YtahfjhmgmpbmkacDoor
open Go.RowKit
set_option linter.unusedVariables false

/-- The first day of a month by its number. -/
def mS (t : Int) : Int := NY (2000 + t / 12) + cum (2000 + t / 12) (t % 12).toNat
theorem mS_succ (t : Int) (h1 : 0 ≤ t) (h2 : t ≤ 2399) : mS (t + 1) = mS t + dim (2000 + t / 12) (t % 12 + 1) := by
  obtain ⟨k, hk⟩ : ∃ k : Nat, t % 12 = (k : Int) := ⟨(t % 12).toNat, by omega⟩
  have e : cum (2000 + t / 12) (k + 1) = cum (2000 + t / 12) k + dim (2000 + t / 12) ((k : Int) + 1) := rfl
  unfold mS
  rw [hk, show ((k : Int)).toNat = k by omega]
  by_cases h : k < 11
  · rw [show (t + 1) / 12 = t / 12 by omega, show ((t + 1) % 12).toNat = k + 1 by omega, e]; omega
  · obtain rfl : k = 11 := by omega
    have c := cum_12 (2000 + t / 12) (by omega) (by omega)
    rw [show 2000 + (t + 1) / 12 = 2000 + t / 12 + 1 by omega, show ((t + 1) % 12).toNat = 0 by omega]
    simp only [cum] at *
    omega
theorem mS_mono (s : Int) (j : Nat) (h1 : 0 ≤ s) (h2 : s + j ≤ 2400) : mS s ≤ mS (s + j) := by
  induction j with
  | zero => simp
  | succ j ih =>
    have a := ih (by omega)
    have b := mS_succ (s + j) (by omega) (by omega)
    have c := (dim_bd (2000 + (s + j) / 12) ((s + j) % 12 + 1)).1
    rw [show s + ((j + 1 : Nat) : Int) = s + j + 1 by omega, b]
    omega
theorem mS_le {s t : Int} (h1 : 0 ≤ s) (h : s ≤ t) (h2 : t ≤ 2400) : mS s ≤ mS t := by
  have := mS_mono s (t - s).toNat h1 (by omega)
  rwa [show s + ((t - s).toNat : Int) = t by omega] at this
theorem amD_bd (t D : Int) (h1 : 0 ≤ t) (h2 : t ≤ 2399) (d : 1 ≤ D) : mS t ≤ amD t D ∧ amD t D < mS (t + 1) := by
  have a := mS_succ t h1 h2
  obtain ⟨k, hk⟩ : ∃ k : Nat, t % 12 = (k : Int) := ⟨(t % 12).toNat, by omega⟩
  have g := dim_ge1 (2000 + t / 12) k (by omega) (by omega) (by omega)
  rw [← hk] at g
  unfold amD num
  rw [show (t % 12 + 1 - 1).toNat = (t % 12).toNat by omega]
  unfold mS at *
  omega
theorem inM_mS {n y : Int} {k : Nat} (h : InMonth n y k) : mS (MN y k) ≤ n ∧ n < mS (MN y k + 1) := by
  have k12 := h.k12
  have y1 := h.y1
  have y2 := h.y2
  have c1 := h.c1
  have c2 := h.c2
  have e : cum y (k + 1) = cum y k + dim y ((k : Int) + 1) := rfl
  obtain ⟨b1, b2⟩ := mn_bd y k y1 y2 k12
  have q1 : 2000 + MN y k / 12 = y := by unfold MN; omega
  have q2 : MN y k % 12 = (k : Int) := by unfold MN; omega
  rw [mS_succ _ b1 b2]
  unfold mS
  rw [q1, q2, show ((k : Int)).toNat = k by omega]
  omega

theorem mo_facts (n1 n2 y1 y2 : Int) (k1 k2 : Nat) (h1 : InMonth n1 y1 k1) (h2 : InMonth n2 y2 k2) (hn : n1 ≤ n2) :
    MN y1 k1 ≤ MN y2 k2 ∧ ∃ V : Nat, muV (MN y1 k1) (MN y2 k2) (amD (MN y2 k2) (n1 - NY y1 - cum y1 k1 + 1)) n2 = (V : Int) ∧ MN y1 k1 + V ≤ 2399 ∧
      (∀ j : Nat, j < V → amD (MN y1 k1 + ((j : Int) + 1)) (n1 - NY y1 - cum y1 k1 + 1) ≤ n2) ∧
      (MN y1 k1 + ((V : Int) + 1) ≤ 2399 → n2 < amD (MN y1 k1 + ((V : Int) + 1)) (n1 - NY y1 - cum y1 k1 + 1)) ∧ (n1 = n2 → V = 0) := by
  obtain ⟨a1, a2⟩ := mn_bd y1 k1 h1.y1 h1.y2 h1.k12
  obtain ⟨b1, b2⟩ := mn_bd y2 k2 h2.y1 h2.y2 h2.k12
  obtain ⟨p1, p2⟩ := inM_mS h1
  obtain ⟨p3, p4⟩ := inM_mS h2
  have d1 : 1 ≤ n1 - NY y1 - cum y1 k1 + 1 := by have := h1.c1; omega
  have self : amD (MN y1 k1) (n1 - NY y1 - cum y1 k1 + 1) = n1 := by
    have q1 : 2000 + MN y1 k1 / 12 = y1 := by unfold MN; have := h1.k12; omega
    have q2 : MN y1 k1 % 12 = (k1 : Int) := by unfold MN; have := h1.k12; omega
    have c2 := h1.c2
    have e : cum y1 (k1 + 1) = cum y1 k1 + dim y1 ((k1 : Int) + 1) := rfl
    unfold amD num
    rw [q1, q2, show ((k1 : Int) + 1 - 1).toNat = k1 by omega]
    omega
  clear h1 h2
  generalize n1 - NY y1 - cum y1 k1 + 1 = D at *
  generalize MN y1 k1 = a at *
  generalize MN y2 k2 = b at *
  have hle : a ≤ b := by
    apply Classical.byContradiction
    intro h
    have := mS_le (s := b + 1) (t := a) (by omega) (by omega) (by omega)
    omega
  have lt : ∀ t, 0 ≤ t → t < b → amD t D ≤ n2 := fun t t0 tb => by
    have := (amD_bd t D t0 (by omega) d1).2
    have := mS_le (s := t + 1) (t := b) (by omega) (by omega) (by omega)
    omega
  have gt : ∀ t, b < t → t ≤ 2399 → n2 < amD t D := fun t tb t2 => by
    have := (amD_bd t D (by omega) t2 d1).1
    have := mS_le (s := b + 1) (t := t) (by omega) (by omega) (by omega)
    omega
  refine ⟨hle, ?_⟩
  by_cases hg : n2 < amD b D
  · have hab : a < b := by
      apply Classical.byContradiction
      intro h
      obtain rfl : a = b := by omega
      omega
    refine ⟨(b - a - 1).toNat, by unfold muV; rw [if_pos hg]; omega, by omega, fun j hj => lt _ (by omega) (by omega), fun _ => ?_, fun e => ?_⟩
    · rw [show a + (((b - a - 1).toNat : Int) + 1) = b by omega]; exact hg
    · subst e
      have := mS_le (s := a + 1) (t := b) (by omega) (by omega) (by omega)
      omega
  · refine ⟨(b - a).toNat, by unfold muV; rw [if_neg hg]; omega, by omega, fun j hj => ?_, fun h => gt _ (by omega) h, fun e => ?_⟩
    · by_cases hb : a + ((j : Int) + 1) = b
      · rw [hb]; omega
      · exact lt _ (by omega) (by omega)
    · subst e
      by_cases hab : a < b
      · have := mS_le (s := a + 1) (t := b) (by omega) (by omega) (by omega)
        omega
      · omega

set_option maxRecDepth 20000 in
theorem rmo_le (n1 n2 y1 y2 : Int) (k1 k2 : Nat) (w : World) (h1 : InMonth n1 y1 k1) (h2 : InMonth n2 y2 k2) (hn : n1 ≤ n2) (V : Nat)
    (hV : MN y1 k1 + V ≤ 2399) (hlo : ∀ j : Nat, j < V → amD (MN y1 k1 + ((j : Int) + 1)) (n1 - NY y1 - cum y1 k1 + 1) ≤ n2)
    (hhi : MN y1 k1 + ((V : Int) + 1) ≤ 2399 → n2 < amD (MN y1 k1 + ((V : Int) + 1)) (n1 - NY y1 - cum y1 k1 + 1)) :
    Calls Tryd.prog 32 #[.int .i64 n1, .int .i64 n2] w fun e w' => e = .returned (.int .i64 (V : Int)) ∧ Below w.heap.size w w' := by
  obtain ⟨a1, a2⟩ := mn_bd y1 k1 h1.y1 h1.y2 h1.k12
  have ra := fun (j : Nat) W (h : j ≤ 2399) => hide (ram_near n1 ((j : Int) + 1) y1 k1 W h1 (by omega) (by omega))
  have LO := hide hlo
  have HI := hide hhi
  clear hlo hhi h1 h2
  generalize n1 - NY y1 - cum y1 k1 + 1 = D at *
  generalize MN y1 k1 = a at *
  go_enter Tryd.func32, Tryd.ntmps32
  go_wp2_with fail
  go_loopw [5] (fun m wr => ∃ j : Nat, j ≤ V ∧ m = .int .i64 j ∧ Hid (Below w.heap.size w wr)) (fun m _ => V - (intOf m).toNat)
  case atStart => exact ⟨0, Nat.zero_le _, rfl, hide (Below.refl _ _)⟩
  case round =>
    obtain ⟨j, hj, rfl, HB⟩ := hrel
    by_cases hlt : j < V
    · have r := fun W => ra j W (by omega)
      have hin : 0 ≤ a + ((j : Int) + 1) ∧ a + ((j : Int) + 1) ≤ 2399 := by omega
      rw [if_pos hin, decide_eq_true hin] at r
      have hv := LO.out j hlt
      have hlt' : j + 1 ≤ V := hlt
      clear hin hlt
      generalize amD (a + ((j : Int) + 1)) D = X at *
      go_wp2_with fail
      refine (r _).out.mono ?_
      rintro e w2 ⟨rfl, hb⟩
      have HB2 := hide (HB.out.trans (hb.mono HB.out.size))
      clear hb
      go_wp2_with fail
      go_roundw
      case rel => exact ⟨j + 1, hlt', by go_num, HB2⟩
      case measure => simp [intOf]; omega
    · obtain rfl : j = V := by omega
      have r := fun W => ra j W (by omega)
      by_cases hin : 0 ≤ a + ((j : Int) + 1) ∧ a + ((j : Int) + 1) ≤ 2399
      · have hv := HI.out hin.2
        rw [if_pos hin, decide_eq_true hin] at r
        clear hin hlt
        generalize amD (a + ((j : Int) + 1)) D = X at *
        go_wp2_with fail
        refine (r _).out.mono ?_
        rintro e w2 ⟨rfl, hb⟩
        have HB2 := hide (HB.out.trans (hb.mono HB.out.size))
        clear hb
        go_wp2_with fail
        go_ret
        exact ⟨rfl, HB2.out⟩
      · rw [if_neg hin, decide_eq_false hin] at r
        clear hin hlt
        go_wp2_with fail
        refine (r _).out.mono ?_
        rintro e w2 ⟨rfl, hb⟩
        have HB2 := hide (HB.out.trans (hb.mono HB.out.size))
        clear hb
        go_wp2_with fail
        go_ret
        exact ⟨rfl, HB2.out⟩
end Go.Proofs.YtahfjhmgmpbmkacDoor
