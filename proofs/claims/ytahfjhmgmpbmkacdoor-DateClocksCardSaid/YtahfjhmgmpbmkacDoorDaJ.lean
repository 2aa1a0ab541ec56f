/-
  Contracts at this translation: ParseClock, the reference's ParseClock, FormatClock. Plain facts on texts of points in time.
-/
import Derived.Test.YtahfjhmgmpbmkacDoorDaH
import Derived.Test.YtahfjhmgmpbmkacDoorDaI
namespace Go.Proofs.YtahfjhmgmpbmkacDoor
open Go.RowKit
set_option linter.unusedVariables false

/-- The form of a point in time. -/
def cform : ByteArray := ⟨#[48, 48, 48, 48, 45, 48, 48, 45, 48, 48, 32, 48, 48, 58, 48, 48]⟩
theorem cf_at (j : Nat) (h : j < 16) (h4 : j ≠ 4) (h7 : j ≠ 7) (h10 : j ≠ 10) (h13 : j ≠ 13) : gB cform j = 48 := by
  have : j = 0 ∨ j = 1 ∨ j = 2 ∨ j = 3 ∨ j = 5 ∨ j = 6 ∨ j = 8 ∨ j = 9 ∨ j = 11 ∨ j = 12 ∨ j = 14 ∨ j = 15 := by omega
  rcases this with rfl | rfl | rfl | rfl | rfl | rfl | rfl | rfl | rfl | rfl | rfl | rfl <;> rfl
theorem cdig {s : ByteArray} (h : HasForm s cform) (j : Nat) (hj : j < 16) (h4 : j ≠ 4) (h7 : j ≠ 7) (h10 : j ≠ 10) (h13 : j ≠ 13) : 48 ≤ gB s j ∧ gB s j ≤ 57 := by
  have hs : s.size = 16 := h.1
  have := h.2 j (by omega)
  rw [cf_at j hj h4 h7 h10 h13] at this
  rcases this with ⟨_, a, b⟩ | ⟨a, _⟩
  · exact ⟨a, b⟩
  · exact absurd rfl a
theorem cd_form {s : ByteArray} (h : HasForm s cform) : HasForm (s.extract 0 10) dform := by
  have hs : s.size = 16 := h.1
  have hz : (s.extract 0 10).size = 10 := by rw [ByteArray.size_extract]; omega
  refine ⟨hz, fun j hj => ?_⟩
  have hj' : j < 10 := by omega
  have e := gB_extract s 0 10 j (by omega) (by omega)
  rw [Nat.zero_add] at e
  rw [e]
  have := h.2 j (by omega)
  have q : j = 0 ∨ j = 1 ∨ j = 2 ∨ j = 3 ∨ j = 4 ∨ j = 5 ∨ j = 6 ∨ j = 7 ∨ j = 8 ∨ j = 9 := by omega
  rcases q with rfl | rfl | rfl | rfl | rfl | rfl | rfl | rfl | rfl | rfl <;> exact this
theorem nv_ext (s : ByteArray) (a k : Nat) (hs : s.size = 16) (hk : a + k ≤ 10) : nv (s.extract 0 10) a k = nv s a k := by
  induction k with
  | zero => rfl
  | succ k ih =>
    simp only [nv]
    rw [ih (by omega), gB_extract s 0 10 (a + k) (by omega) (by omega), Nat.zero_add]
theorem not_both {s : ByteArray} (h : HasForm s cform) : ¬ HasForm s dform := fun h' => by
  have a : s.size = 16 := h.1
  have b : s.size = 10 := h'.1
  omega

set_option maxHeartbeats 4000000 in
set_option maxRecDepth 20000 in
theorem pc_no (s : ByteArray) (w : World) (h : ¬ HasForm s cform) (hm : s.size ≤ maxLen) :
    Calls Tryd.prog 39 #[.string s] w fun e w' => e = .returned (.tuple #[.agg #[.int .i64 0, .int .i64 0], .int .i64 3]) ∧ Below w.heap.size w w' := by
  have hf := fun w => hide (hf_no s cform w (by decide) h hm)
  have HB := fun n => hide (below_drewN ((Below.refl w.heap.size w).alloc (Nat.le_refl _) (.cells #[.int .i64 0, .int .i64 0] 55)) n)
  clear h hm
  go_enter Tryd.func39, Tryd.ntmps39
  go_wp2_with fail
  refine (hf _).out.mono ?_
  rintro e w' ⟨rfl, n, rfl⟩
  go_wp2_with fail
  exact bodyPost_ret (v := .tuple #[.agg #[.int .i64 0, .int .i64 0], .int .i64 3]) (by simp [results, Tryd.results39, go_sem]) rfl ⟨rfl, ((HB n).out.setCell (Nat.le_refl _) _).setCell (Nat.le_refl _) _⟩

/-- The result's cells. -/
def Cl (b : Nat) (W : World) : Prop := W.cell? ⟨b, 0, none⟩ = some (.int .i64 0) ∧ W.cell? ⟨b, 1, none⟩ = some (.int .i64 0) ∧ W.frozen? ⟨b, 0, none⟩ = false ∧ W.frozen? ⟨b, 1, none⟩ = false ∧ b < W.heap.size
theorem Cl.keep {b : Nat} {W W' : World} (h : Cl b W) (hb : Below W.heap.size W W') : Cl b W' :=
  ⟨(hb.cell (p := ⟨b, 0, none⟩) h.2.2.2.2).trans h.1, (hb.cell (p := ⟨b, 1, none⟩) h.2.2.2.2).trans h.2.1, (hb.frozen (p := ⟨b, 0, none⟩) h.2.2.2.2).trans h.2.2.1, (hb.frozen (p := ⟨b, 1, none⟩) h.2.2.2.2).trans h.2.2.2.1, Nat.lt_of_lt_of_le h.2.2.2.2 hb.size⟩
theorem cl_new (W : World) : Cl W.heap.size (W.alloc (.cells #[.int .i64 0, .int .i64 0] 55)) := by
  refine ⟨?_, ?_, ?_, ?_, by simp⟩ <;> simp [go_sem]

set_option maxHeartbeats 4000000 in
set_option maxRecDepth 20000 in
theorem pc_bad (s : ByteArray) (w : World) (T : Tabs w) (h : HasForm s cform) (hb : fcE (nv s 0 4) (nv s 5 2) (nv s 8 2) = 28) (hm : s.size ≤ maxLen) :
    Calls Tryd.prog 39 #[.string s] w fun e w' => e = .returned (.tuple #[.agg #[.int .i64 0, .int .i64 0], .int .i64 28]) ∧ Below w.heap.size w w' := by
  have hs : s.size = 16 := h.1
  have hf := fun w => hide (hf_yes s cform w (by decide) h)
  have pa := fun w T => hide (pa_yes (s.extract 0 10) w T (cd_form h))
  rw [nv_ext s 0 4 hs (by omega), nv_ext s 5 2 hs (by omega), nv_ext s 8 2 hs (by omega), hb] at pa
  have hv : fcV (nv s 0 4) (nv s 5 2) (nv s 8 2) = 0 := by
    unfold fcE at hb; unfold fcV
    split at hb
    · exact absurd hb (by decide)
    · next q => rw [if_neg q]
  rw [hv] at pa
  have z : (10 : Int) ≤ (s.size : Int) := by omega
  have C0 := hide (cl_new w)
  have B0 := hide ((Below.refl w.heap.size w).alloc (Nat.le_refl _) (.cells #[.int .i64 0, .int .i64 0] 55))
  have T0 := hide (T.keep B0.out)
  clear h hb hv hs hm T
  go_enter Tryd.func39, Tryd.ntmps39
  go_wp2_with fail
  refine (hf _).out.mono ?_
  rintro e w' ⟨rfl, n, rfl⟩
  have hq : Below (w.alloc (.cells #[.int .i64 0, .int .i64 0] 55)).heap.size (w.alloc (.cells #[.int .i64 0, .int .i64 0] 55)) ((w.alloc (.cells #[.int .i64 0, .int .i64 0] 55)).drewN n) := below_drewN (Below.refl _ _) n
  have C1 := hide (C0.out.keep hq)
  have T1 := hide (T0.out.keep hq)
  have B1 := hide (B0.out.trans (hq.mono B0.out.size))
  clear hq
  go_wp2_with fail
  refine (pa _ T1.out).out.mono ?_
  rintro e w1 ⟨rfl, hb⟩
  obtain ⟨c0, c1, f0, f1, hlt⟩ := C1.out.keep hb
  have B2 := hide (B1.out.trans (hb.mono B1.out.size))
  clear hb
  go_wp2_with fail
  exact bodyPost_ret (v := .tuple #[.agg #[.int .i64 0, .int .i64 0], .int .i64 28]) (by simp [results, Tryd.results39, go_sem, c0, c1]) rfl ⟨rfl, (B2.out.setCell (Nat.le_refl _) _).setCell (Nat.le_refl _) _⟩

set_option maxHeartbeats 4000000 in
set_option maxRecDepth 20000 in
theorem pc_yes (s : ByteArray) (w : World) (T : Tabs w) (h : HasForm s cform) (hb : fcE (nv s 0 4) (nv s 5 2) (nv s 8 2) = 0) (h1 : nv s 11 2 ≤ 23) (h2 : nv s 14 2 ≤ 59) :
    Calls Tryd.prog 39 #[.string s] w fun e w' => e = .returned (.tuple #[.agg #[.int .i64 (fcV (nv s 0 4) (nv s 5 2) (nv s 8 2)), .int .i64 (nv s 11 2 * 60 + nv s 14 2)], .int .i64 0]) ∧ Below w.heap.size w w' := by
  have hs : s.size = 16 := h.1
  have hf := fun w => hide (hf_yes s cform w (by decide) h)
  have pa := fun w T => hide (pa_yes (s.extract 0 10) w T (cd_form h))
  rw [nv_ext s 0 4 hs (by omega), nv_ext s 5 2 hs (by omega), nv_ext s 8 2 hs (by omega), hb] at pa
  have fo := fun w => hide (fo_any s w)
  have k1 : ∀ (g : Nat) (w : World), w.cell? ⟨g, 0, none⟩ = some (.string s) → Hid (Calls Tryd.prog 59 #[.int .i64 11, .int .i64 13, .pointer (some ⟨g, 0, none⟩)] w fun e w' => e = .returned (.int .i64 (nv s 11 2)) ∧ Below w.heap.size w w') := fun g w c => hide (fe_any s g 11 13 2 w c (by omega) (by omega) (by omega) (by omega) (fun j hj => cdig h _ (by omega) (by omega) (by omega) (by omega) (by omega)))
  have k2 : ∀ (g : Nat) (w : World), w.cell? ⟨g, 0, none⟩ = some (.string s) → Hid (Calls Tryd.prog 59 #[.int .i64 14, .int .i64 16, .pointer (some ⟨g, 0, none⟩)] w fun e w' => e = .returned (.int .i64 (nv s 14 2)) ∧ Below w.heap.size w w') := fun g w c => hide (fe_any s g 14 16 2 w c (by omega) (by omega) (by omega) (by omega) (fun j hj => cdig h _ (by omega) (by omega) (by omega) (by omega) (by omega)))
  have n1 := (nv_bd s 11 2 (by omega) (fun j hj => cdig h _ (by omega) (by omega) (by omega) (by omega) (by omega))).1
  have n2 := (nv_bd s 14 2 (by omega) (fun j hj => cdig h _ (by omega) (by omega) (by omega) (by omega) (by omega))).1
  generalize fcV (nv s 0 4) (nv s 5 2) (nv s 8 2) = V at *
  generalize nv s 11 2 = HH at *
  generalize nv s 14 2 = MM at *
  have z : (10 : Int) ≤ (s.size : Int) := by omega
  have C0 := hide (cl_new w)
  have B0 := hide ((Below.refl w.heap.size w).alloc (Nat.le_refl _) (.cells #[.int .i64 0, .int .i64 0] 55))
  have T0 := hide (T.keep B0.out)
  clear h hb hs T
  go_enter Tryd.func39, Tryd.ntmps39
  go_wp2_with fail
  refine (hf _).out.mono ?_
  rintro e w' ⟨rfl, n, rfl⟩
  have hq : Below (w.alloc (.cells #[.int .i64 0, .int .i64 0] 55)).heap.size (w.alloc (.cells #[.int .i64 0, .int .i64 0] 55)) ((w.alloc (.cells #[.int .i64 0, .int .i64 0] 55)).drewN n) := below_drewN (Below.refl _ _) n
  have C1 := hide (C0.out.keep hq)
  have T1 := hide (T0.out.keep hq)
  have B1 := hide (B0.out.trans (hq.mono B0.out.size))
  clear hq
  go_wp2_with fail
  refine (pa _ T1.out).out.mono ?_
  rintro e w1 ⟨rfl, hb⟩
  have C2 := hide (C1.out.keep hb)
  have B2 := hide (B1.out.trans (hb.mono B1.out.size))
  clear hb
  go_wp2_with fail
  refine (fo _).out.mono ?_
  rintro e w' ⟨rfl, rfl⟩
  have hq : Below w1.heap.size w1 (w1.alloc (.cells #[.string s] 9)) := (Below.refl _ _).alloc (Nat.le_refl _) _
  have C3 := hide (C2.out.keep hq)
  have B3 := hide (B2.out.trans (hq.mono B2.out.size))
  have hc0 : (w1.alloc (.cells #[.string s] 9)).cell? ⟨w1.heap.size, 0, none⟩ = some (.string s) := by simp [go_sem]
  have hg0 : w1.heap.size < (w1.alloc (.cells #[.string s] 9)).heap.size := by simp
  clear hq
  go_wp2_with fail
  generalize w1.alloc (.cells #[.string s] 9) = W at *
  refine (k1 _ _ hc0).out.mono ?_
  rintro e w2 ⟨rfl, hb⟩
  have hc1 := (hb.cell (p := ⟨w1.heap.size, 0, none⟩) hg0).trans hc0
  have C4 := hide (C3.out.keep hb)
  have B4 := hide (B3.out.trans (hb.mono B3.out.size))
  clear hb hc0 hg0
  go_wp2_with fail
  refine (k2 _ _ hc1).out.mono ?_
  rintro e w3 ⟨rfl, hb⟩
  obtain ⟨c0, c1, f0, f1, hlt⟩ := C4.out.keep hb
  have B5 := hide (B4.out.trans (hb.mono B4.out.size))
  clear hb hc1
  go_wp2_with fail
  exact bodyPost_ret (v := .tuple #[.agg #[.int .i64 V, .int .i64 (HH * 60 + MM)], .int .i64 0]) (by simp [results, Tryd.results39, go_sem, c0, c1]) rfl ⟨rfl, (B5.out.setCell (Nat.le_refl _) _).setCell (Nat.le_refl _) _⟩
end Go.Proofs.YtahfjhmgmpbmkacDoor
