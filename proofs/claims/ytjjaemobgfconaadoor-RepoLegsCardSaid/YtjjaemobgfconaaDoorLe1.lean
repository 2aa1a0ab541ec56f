/-
  Both legs, plainly.
-/
import Derived.Test.YtjjaemobgfconaaDoorEF
import Derived.Test.YtjjaemobgfconaaDoorE9
import Derived.Test.YtjjaemobgfconaaDoorTr1
import Derived.WalkKit
import Derived.Deep.QuietTactic
import Derived.BigQuiet
import Derived.Laws.EntriesVeiled
import Derived.Lib.MinMax
import Derived.Deep.Light
namespace Go.Proofs.YtjjaemobgfconaaDoor
open Go.RowKit
set_option linter.unusedVariables false
set_option linter.unusedSimpArgs false
set_option linter.unnecessarySimpa false

theorem app_size (s : ByteArray) (c : UInt8) : (s ++ ⟨#[45, c]⟩ : ByteArray).size = s.size + 2 := by
  rw [ByteArray.size_append]
  rfl
theorem gB_app (s : ByteArray) (c : UInt8) (j : Nat) : gB (s ++ ⟨#[45, c]⟩) j = if j < s.size then gB s j else if j = s.size then 45 else if j = s.size + 1 then (c.toNat : Int) else 0 := by
  have hl : s.data.toList.length = s.size := Array.length_toList
  unfold gB
  rw [show (s ++ ⟨#[45, c]⟩ : ByteArray).data.toList = s.data.toList ++ [45, c] by simp [ByteArray.data_append]]
  simp only [List.getD_eq_getElem?_getD, List.getElem?_append, hl]
  by_cases h1 : j < s.size
  · rw [if_pos h1, if_pos h1]
  · rw [if_neg h1, if_neg h1]
    obtain ⟨k, rfl⟩ : ∃ k, j = s.size + k := ⟨j - s.size, by omega⟩
    rw [show s.size + k - s.size = k by omega]
    match k with
    | 0 => simp
    | 1 => simp
    | k + 2 => rw [if_neg (by omega), if_neg (by omega)]; rfl
theorem ok2_iff (s : ByteArray) : okI 2 s = true ↔ (1 ≤ s.size ∧ s.size ≤ 16 ∧ ∀ j : Nat, j < s.size → may 2 j (gB s j) = true) := by
  have e1 : loK 2 = 1 := rfl
  have e2 : hiK 2 = 16 := rfl
  constructor
  · intro h
    have h16 := ref_len h
    unfold okI at h
    have h := of_decide_eq_true h
    unfold ckR at h
    rw [if_neg (by decide), e1, e2] at h
    by_cases hp : (pre 2 1 16 s).2 = 0
    · unfold pre at hp
      split at hp
      · cases hp
      · rename_i hn
        unfold clE at hp
        simp only at hp
        refine ⟨?_, h16, fun j hj => fb_none hn j ?_⟩
        · split at hp
          · cases hp
          · omega
        · rw [show (16 : Int).toNat = 16 from rfl]; omega
    · rw [if_pos hp] at h
      exact absurd h hp
  · rintro ⟨h1, h2, h3⟩
    have hn : firstBad 2 s (min s.size (16 : Int).toNat) = none := by
      unfold firstBad
      rw [List.find?_range_eq_none]
      intro j hj
      rw [show (16 : Int).toNat = 16 from rfl] at hj
      rw [h3 j (by omega)]
      rfl
    have hp : (pre 2 1 16 s).2 = 0 := by
      unfold pre
      rw [hn]
      unfold clE
      simp only
      rw [if_neg (by omega), if_neg (by omega)]
    unfold okI ckR
    rw [if_neg (by decide), e1, e2, if_neg (by rw [hp]; decide), if_neg (by rintro ⟨h, _⟩; cases h), if_neg (by rintro ⟨h, _⟩; cases h)]
    rfl
theorem leg_ref {s : ByteArray} (h : okI 2 (s ++ ⟨#[45, 65]⟩) = true) : okI 2 (s ++ ⟨#[45, 66]⟩) = true := by
  rw [ok2_iff] at *
  obtain ⟨h1, h2, h3⟩ := h
  rw [app_size] at h1 h2
  refine ⟨by rw [app_size]; exact h1, by rw [app_size]; exact h2, fun j hj => ?_⟩
  rw [app_size] at hj
  have h4 := h3 j (by rw [app_size]; exact hj)
  rw [gB_app] at h4 ⊢
  by_cases c1 : j < s.size
  · rw [if_pos c1] at h4 ⊢; exact h4
  · by_cases c2 : j = s.size
    · rw [if_neg c1, if_pos c2] at h4 ⊢; exact h4
    · rw [if_neg c1, if_neg c2, if_pos (by omega)]
      rfl
/-- The trades of both legs. -/
def lgA (t : Ag) : Tr := ⟨1, t.se, t.bu, t.sn, t.q, t.c, t.op, t.op, 0, false, 0, t.rf ++ ⟨#[45, 65]⟩, t.rf ++ ⟨#[45, 65]⟩⟩
def lgB (t : Ag) : Tr := ⟨1, t.bu, t.se, t.sn, t.q, reV t, t.op, t.cl, 0, false, 0, t.rf ++ ⟨#[45, 66]⟩, t.rf ++ ⟨#[45, 66]⟩⟩
def zT : Tr := ⟨0, ⟨#[]⟩, ⟨#[]⟩, ⟨#[]⟩, 0, 0, 0, 0, 0, false, 0, ⟨#[]⟩, ⟨#[]⟩⟩
def leA (t : Ag) : Tr := if agE t = 0 then lgA t else zT
def leB (t : Ag) : Tr := if agE t = 0 then lgB t else zT
theorem nm_ok {t : Ag} (h : nmE t = 0) : okI 2 t.rf = true ∧ okI 2 (t.rf ++ ⟨#[45, 65]⟩) = true ∧ okI 1 t.se = true ∧ okI 1 t.bu = true ∧ (t.se.toList == t.bu.toList) = false ∧ okI 0 t.sn = true := by
  unfold nmE at h
  revert h
  generalize okI 2 t.rf = b0
  generalize okI 2 (t.rf ++ ⟨#[45, 65]⟩) = b1
  generalize okI 1 t.se = b2
  generalize okI 1 t.bu = b3
  generalize (t.se.toList == t.bu.toList) = b4
  generalize okI 0 t.sn = b5
  revert b0 b1 b2 b3 b4 b5
  decide
theorem re_one {t : Ag} (h : agE t = 0) : 1 ≤ reV t ∧ reV t ≤ 1000000000000000 := by
  obtain ⟨z0, z1, z2, z3⟩ := ag_ok h
  have hd := day_of z2
  have hF := fit_of z1
  obtain ⟨v1, v2⟩ := iV_bd hF (k := t.cl - t.op) (by omega) (by omega)
  have c1 := hF.c1
  refine ⟨?_, (reV_bd h).2⟩
  unfold reV
  rw [if_neg (by rw [h]; decide)]
  omega
theorem rf_len {t : Ag} (h : agE t = 0) : t.rf.size ≤ 16 := ref_len (nm_ok (ag_ok h).1).1
theorem lgA_ok {t : Ag} (o : t.Ok) (h : agE t = 0) : (lgA t).Ok ∧ (lgB t).Ok := by
  have h1 := re_one h
  have h2 := rf_len h
  have s1 := app_size t.rf 65
  have s2 := app_size t.rf 66
  exact ⟨⟨by show _ ≤ (1 : Int) ∧ (1 : Int) ≤ _; omega, o.q, o.c, o.op, o.op, by show _ ≤ (0 : Int) ∧ (0 : Int) ≤ _; omega, by show _ ≤ (0 : Int) ∧ (0 : Int) ≤ _; omega, o.se, o.bu, o.sn, by show (t.rf ++ ⟨#[45, 65]⟩ : ByteArray).size ≤ _; omega, by show (t.rf ++ ⟨#[45, 65]⟩ : ByteArray).size ≤ _; omega⟩,
    ⟨by show _ ≤ (1 : Int) ∧ (1 : Int) ≤ _; omega, o.q, by show _ ≤ reV t ∧ reV t ≤ _; omega, o.op, o.cl, by show _ ≤ (0 : Int) ∧ (0 : Int) ≤ _; omega, by show _ ≤ (0 : Int) ∧ (0 : Int) ≤ _; omega, o.bu, o.se, o.sn, by show (t.rf ++ ⟨#[45, 66]⟩ : ByteArray).size ≤ _; omega, by show (t.rf ++ ⟨#[45, 66]⟩ : ByteArray).size ≤ _; omega⟩⟩
theorem tE_zero {x : Tr} (h0 : x.k = 1) (h1 : okI 1 x.d = true) (h2 : okI 1 x.r = true) (h3 : (x.d.toList == x.r.toList) = false) (h4 : okI 0 x.a = true) (h5 : nE x = 0) (h6 : okI 2 x.r0 = true) (h7 : okI 2 x.r1 = true) : tE x = 0 := by
  unfold tE
  rw [h0, h1, h2, h3, h4, h5, h6, h7]
  rfl
theorem lg_sound {t : Ag} (h : agE t = 0) : tE (lgA t) = 0 ∧ tE (lgB t) = 0 := by
  obtain ⟨z0, z1, z2, z3⟩ := ag_ok h
  obtain ⟨n0, n1, n2, n3, n4, n5⟩ := nm_ok z0
  have hd := day_of z2
  have hF := fit_of z1
  have c1 := hF.c1
  have c2 := hF.c2
  obtain ⟨q1, q2⟩ := q_of z1
  have hr := re_one h
  have n4' : (t.bu.toList == t.se.toList) = false := by
    rw [beq_eq_false_iff_ne] at *
    exact fun h => n4 h.symm
  refine ⟨tE_zero rfl n2 n3 n4 n5 ?_ n1 n1, tE_zero rfl n3 n2 n4' n5 ?_ (leg_ref n1) (leg_ref n1)⟩
  · unfold nE lgA
    simp only
    rw [if_neg (by omega), if_neg (by omega), if_neg (by omega), if_neg (by omega), if_neg (by simp)]
  · unfold nE lgB
    simp only
    rw [if_neg (by omega), if_neg (by omega), if_neg (by omega), if_neg (by omega), if_neg (by simp)]

end Go.Proofs.YtjjaemobgfconaaDoor
