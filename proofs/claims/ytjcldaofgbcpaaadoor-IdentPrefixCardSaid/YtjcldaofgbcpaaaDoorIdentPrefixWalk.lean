/-
  The walk of IdentPrefix.
-/
import Derived.Test.YtjcldaofgbcpaaaDoorId17
namespace Go.Proofs.YtjcldaofgbcpaaaDoor
open Go.RowKit
set_option linter.unusedVariables false

theorem hi_bd {kind : Int} : 0 ≤ hiK kind ∧ hiK kind ≤ 20 := by unfold hiK; split <;> (try omega) <;> split <;> (try omega) <;> split <;> omega
theorem ckR_bad {kind : Int} {s : ByteArray} {J : Nat} (hk : ¬ (kind < 0 ∨ 3 < kind)) (h : firstBad kind s (min s.size (hiK kind).toNat) = some J) : ckR kind s = ((J : Int), 3) := by
  unfold ckR
  have e : pre kind (loK kind) (hiK kind) s = ((J : Int), 3) := by unfold pre; rw [h]
  rw [if_neg hk, e, if_pos (by simp)]
theorem ckR_short {kind : Int} {s : ByteArray} (hk : ¬ (kind < 0 ∨ 3 < kind)) (h : ∀ j : Nat, j < s.size → may kind j (gB s j) = true) (hl : (s.size : Int) < loK kind) : ckR kind s = ((s.size : Int), 4) := by
  have e : pre kind (loK kind) (hiK kind) s = ((s.size : Int), 4) := by
    unfold pre
    rw [fb_good (fun j hj => h j (by omega))]
    simp only [clV, clE]
    rw [if_pos hl, if_pos hl]
  unfold ckR
  rw [if_neg hk, e, if_pos (by simp)]
theorem ckR_fine {kind : Int} {s : ByteArray} (hk : kind = 1 ∨ kind = 2) (h : ∀ j : Nat, j < s.size → may kind j (gB s j) = true) (hl : loK kind ≤ (s.size : Int)) (hh : (s.size : Int) ≤ hiK kind) : ckR kind s = (0, 0) := by
  have e : (pre kind (loK kind) (hiK kind) s).2 = 0 := by
    unfold pre
    rw [fb_good (fun j hj => h j (by omega))]
    simp only [clE]
    rw [if_neg (by omega), if_neg (by omega)]
  unfold ckR
  rw [if_neg (by omega), if_neg (fun q => q e), if_neg (fun q => by have := q.1; omega), if_neg (fun q => by have := q.1; omega)]
theorem ck3 {kind : Int} {s : ByteArray} (h : (ckR kind s).2 = 3) : ¬ (kind < 0 ∨ 3 < kind) ∧ ∃ J, firstBad kind s (min s.size (hiK kind).toNat) = some J ∧ (ckR kind s).1 = (J : Int) := by
  by_cases hk : kind < 0 ∨ 3 < kind
  · unfold ckR at h; rw [if_pos hk] at h; exact absurd h (by decide)
  · refine ⟨hk, ?_⟩
    cases hf : firstBad kind s (min s.size (hiK kind).toNat) with
    | some J => exact ⟨J, rfl, by rw [ckR_bad hk hf]⟩
    | none =>
      exfalso
      have e : (pre kind (loK kind) (hiK kind) s).2 ≠ 3 := by
        unfold pre; rw [hf]; simp only [clE]
        split
        · decide
        · split <;> decide
      unfold ckR at h
      rw [if_neg hk] at h
      split at h
      · exact e h
      · split at h
        · exact absurd h (by decide)
        · split at h <;> exact absurd h (by decide)
theorem ck0 {kind : Int} {s : ByteArray} (h : (ckR kind s).2 = 0) : ¬ (kind < 0 ∨ 3 < kind) ∧ loK kind ≤ (s.size : Int) ∧ (s.size : Int) ≤ hiK kind ∧ ∀ j : Nat, j < s.size → may kind j (gB s j) = true := by
  by_cases hk : kind < 0 ∨ 3 < kind
  · unfold ckR at h; rw [if_pos hk] at h; exact absurd h (by decide)
  · unfold ckR at h
    rw [if_neg hk] at h
    by_cases q : (pre kind (loK kind) (hiK kind) s).2 ≠ 0
    · rw [if_pos q] at h; exact absurd h q
    · have q' : (pre kind (loK kind) (hiK kind) s).2 = 0 := Classical.byContradiction q
      obtain ⟨_, a, b, c⟩ := pre_ok hi_bd.1 q'
      exact ⟨hk, a, b, c⟩
/-- A shorter prefix of an identifier. -/
theorem ck_less {kind : Int} {C : ByteArray} (h : (ckR kind C).2 = 0) : 1 ≤ C.size ∧ (ckR kind (C.extract 0 (C.size - 1)) = (0, 0) ∨ ckR kind (C.extract 0 (C.size - 1)) = ((C.size : Int) - 1, 4)) := by
  obtain ⟨hk, a, b, c⟩ := ck0 h
  have lo1 : 1 ≤ loK kind := by unfold loK; split <;> (try omega) <;> split <;> (try omega) <;> split <;> omega
  have hz := ex_size C 0 (C.size - 1) (by omega)
  have hz' : (C.extract 0 (C.size - 1)).size = C.size - 1 := by omega
  have g : ∀ j : Nat, j < (C.extract 0 (C.size - 1)).size → may kind j (gB (C.extract 0 (C.size - 1)) j) = true := fun j hj => by
    rw [gB_extract C 0 (C.size - 1) j (by omega) (by omega), Nat.zero_add]
    exact c j (by omega)
  refine ⟨by omega, ?_⟩
  by_cases q : ((C.size - 1 : Nat) : Int) < loK kind
  · right
    have := ckR_short hk g (by rw [hz']; exact q)
    rw [this, hz']
    congr 1
    omega
  · left
    have hk4 : kind = 0 ∨ kind = 1 ∨ kind = 2 ∨ kind = 3 := by omega
    rcases hk4 with rfl | rfl | rfl | rfl
    · rw [lo0] at *; rw [hi0] at b; exfalso; omega
    · exact ckR_fine (.inl rfl) g (by omega) (by omega)
    · exact ckR_fine (.inr rfl) g (by omega) (by omega)
    · rw [lo3] at *; rw [hi3] at b; exfalso; omega
/-- What stands behind a byte that is not permitted makes no difference. -/
theorem ck_behind {kind : Int} {C D : ByteArray} {J : Nat} (hk : ¬ (kind < 0 ∨ 3 < kind)) (h : firstBad kind C (min C.size (hiK kind).toNat) = some J) : ckR kind (C.extract 0 (J + 1) ++ D) = ((J : Int), 3) := by
  obtain ⟨h1, h2, h3⟩ := fb_some h
  have hz := ex_size C 0 (J + 1) (by omega)
  obtain ⟨⟨t⟩⟩ := D
  have g : ∀ j : Nat, j ≤ J → gB (C.extract 0 (J + 1) ++ ⟨⟨t⟩⟩) j = gB C j := fun j hj => by
    rw [gB_app_l _ t j (by omega), gB_extract C 0 (J + 1) j (by omega) (by omega), Nat.zero_add]
  have hs := app_size (C.extract 0 (J + 1)) t
  refine ckR_bad hk (fb_first (by omega) (by rw [g J (Nat.le_refl _)]; exact h2) (fun j hj => by rw [g j (by omega)]; exact h3 j hj))

set_option maxHeartbeats 4000000 in
set_option maxRecDepth 20000 in
theorem identPrefix_walk (a0 : Int) (a1 : ByteArray) (a2 : ByteArray) (w : World) (w0 : (Lit.int .i64 a0).wf = true) (w1 : a1.size ≤ maxLen) (w2 : a2.size ≤ maxLen) (hL : laidMetH Tryd.prog laid w) :
    Calls Tryd.prog 11 #[.int .i64 a0, .string a1, .string a2] w fun e w' => e = .returned (.bool true) ∧ Below w.heap.size w w' := by
  have S := shp_of hL
  unfold maxLen at w1 w2
  have hz := cut_le a1
  have hz2 := cut_le a2
  have SS := hide S
  clear hL w0 S
  go_enter Tryd.func11, Tryd.ntmps11
  go_wp2_with fail
  go_quiet (fail)
  have B0 := hide (below_drewN (Below.refl w.heap.size w) nq)
  generalize w.drewN nq = W at *
  go_wp2_with fail
  generalize a1.extract 0 (min (a1.size : Int) 100).toNat = C at *
  generalize a2.extract 0 (min (a2.size : Int) 100).toNat = D at *
  have ck := fun w S => hide (ck_any a0 C w S (by omega))
  clear w1 w2
  by_cases h3 : (ckR a0 C).2 = 3
  · obtain ⟨hk, J, hf, hJ⟩ := ck3 h3
    obtain ⟨j1, _, _⟩ := fb_some hf
    have c2 := ck_behind (D := D) hk hf
    have zz : (C.extract 0 (J + 1) ++ D).size ≤ 200 := by rw [ByteArray.size_append, ex_size C 0 (J + 1) (by omega)]; omega
    have cb := fun w S => hide (ck_any a0 (C.extract 0 (J + 1) ++ D) w S zz)
    have A1 : ∀ W, (Op.stringOp .add (C.extract 0 (J + 1)) D).run Tryd.prog W = .ok (.string (C.extract 0 (J + 1) ++ D)) W := fun W => run_string_add_sum W _ _ (by rw [ex_size C 0 (J + 1) (by omega)]; omega)
    rw [c2] at cb
    rw [hJ, h3] at ck
    have jl : J + 1 ≤ C.size := by omega
    have jl2 : (J : Int) + 1 ≤ (C.size : Int) := by omega
    clear hJ h3 hf hk c2 zz j1
    refine (ck _ (SS.out.keep B0.out)).out.mono ?_
    rintro e w1 ⟨rfl, hb⟩
    have B1 := hide (B0.out.trans (hb.mono B0.out.size))
    clear hb
    go_wp2_with fail
    refine (cb _ (SS.out.keep B1.out)).out.mono ?_
    rintro e w2 ⟨rfl, hb⟩
    have B2 := hide (B1.out.trans (hb.mono B1.out.size))
    clear hb
    go_wp2_with fail
    refine (known_any _ (SS.out.keep B2.out)).mono ?_
    rintro e w3 ⟨rfl, hb⟩
    have B3 := hide (B2.out.trans (hb.mono B2.out.size))
    clear hb
    go_wp2_with fail
    go_ret
    exact ⟨rfl, B3.out⟩
  · by_cases h0 : (ckR a0 C).2 = 0
    · obtain ⟨hs, hc⟩ := ck_less h0
      have zz : (C.extract 0 (C.size - 1)).size ≤ 200 := by rw [ex_size C 0 (C.size - 1) (by omega)]; omega
      have cb := fun w S => hide (ck_any a0 (C.extract 0 (C.size - 1)) w S zz)
      rw [h0] at ck
      clear h3 h0 zz
      generalize (ckR a0 C).1 = V at *
      have hs1 : (1 : Int) ≤ (C.size : Int) := by omega
      rcases hc with hc | hc
      · rw [hc] at cb
        clear hc
        refine (ck _ (SS.out.keep B0.out)).out.mono ?_
        rintro e w1 ⟨rfl, hb⟩
        have B1 := hide (B0.out.trans (hb.mono B0.out.size))
        clear hb
        go_wp2_with fail
        refine (cb _ (SS.out.keep B1.out)).out.mono ?_
        rintro e w2 ⟨rfl, hb⟩
        have B2 := hide (B1.out.trans (hb.mono B1.out.size))
        clear hb
        go_wp2_with fail
        refine (known_any _ (SS.out.keep B2.out)).mono ?_
        rintro e w3 ⟨rfl, hb⟩
        have B3 := hide (B2.out.trans (hb.mono B2.out.size))
        clear hb
        go_wp2_with fail
        go_ret
        exact ⟨rfl, B3.out⟩
      · rw [hc] at cb
        clear hc
        refine (ck _ (SS.out.keep B0.out)).out.mono ?_
        rintro e w1 ⟨rfl, hb⟩
        have B1 := hide (B0.out.trans (hb.mono B0.out.size))
        clear hb
        go_wp2_with fail
        refine (cb _ (SS.out.keep B1.out)).out.mono ?_
        rintro e w2 ⟨rfl, hb⟩
        have B2 := hide (B1.out.trans (hb.mono B1.out.size))
        clear hb
        go_wp2_with fail
        refine (known_any _ (SS.out.keep B2.out)).mono ?_
        rintro e w3 ⟨rfl, hb⟩
        have B3 := hide (B2.out.trans (hb.mono B2.out.size))
        clear hb
        go_wp2_with fail
        go_ret
        exact ⟨rfl, B3.out⟩
    · generalize (ckR a0 C).1 = V at *
      generalize (ckR a0 C).2 = E at *
      refine (ck _ (SS.out.keep B0.out)).out.mono ?_
      rintro e w1 ⟨rfl, hb⟩
      have B1 := hide (B0.out.trans (hb.mono B0.out.size))
      clear hb
      go_wp2_with fail
      refine (known_any _ (SS.out.keep B1.out)).mono ?_
      rintro e w3 ⟨rfl, hb⟩
      have B3 := hide (B1.out.trans (hb.mono B1.out.size))
      clear hb
      go_wp2_with fail
      go_ret
      exact ⟨rfl, B3.out⟩
end Go.Proofs.YtjcldaofgbcpaaaDoor
