/-
  Contracts at this translation: ParseClock at an hour or a minute beyond its range; the reference's ParseClock; FormatClock.
-/
import Derived.Test.YtahfjhmgmpbmkacDoorDaJ
namespace Go.Proofs.YtahfjhmgmpbmkacDoor
open Go.RowKit
set_option linter.unusedVariables false

set_option maxHeartbeats 4000000 in
set_option maxRecDepth 20000 in
theorem pc_rng1 (s : ByteArray) (w : World) (T : Tabs w) (h : HasForm s cform) (hb : fcE (nv s 0 4) (nv s 5 2) (nv s 8 2) = 0) (h1 : 23 < nv s 11 2) :
    Calls Tryd.prog 39 #[.string s] w fun e w' => e = .returned (.tuple #[.agg #[.int .i64 0, .int .i64 0], .int .i64 2]) ∧ Below w.heap.size w w' := by
  have hs : s.size = 16 := h.1
  have hf := fun w => hide (hf_yes s cform w (by decide) h)
  have pa := fun w T => hide (pa_yes (s.extract 0 10) w T (cd_form h))
  rw [nv_ext s 0 4 hs (by omega), nv_ext s 5 2 hs (by omega), nv_ext s 8 2 hs (by omega), hb] at pa
  have fo := fun w => hide (fo_any s w)
  have k1 : ∀ (g : Nat) (w : World), w.cell? ⟨g, 0, none⟩ = some (.string s) → Hid (Calls Tryd.prog 59 #[.int .i64 11, .int .i64 13, .pointer (some ⟨g, 0, none⟩)] w fun e w' => e = .returned (.int .i64 (nv s 11 2)) ∧ Below w.heap.size w w') := fun g w c => hide (fe_any s g 11 13 2 w c (by omega) (by omega) (by omega) (by omega) (fun j hj => cdig h _ (by omega) (by omega) (by omega) (by omega) (by omega)))
  have k2 : ∀ (g : Nat) (w : World), w.cell? ⟨g, 0, none⟩ = some (.string s) → Hid (Calls Tryd.prog 59 #[.int .i64 14, .int .i64 16, .pointer (some ⟨g, 0, none⟩)] w fun e w' => e = .returned (.int .i64 (nv s 14 2)) ∧ Below w.heap.size w w') := fun g w c => hide (fe_any s g 14 16 2 w c (by omega) (by omega) (by omega) (by omega) (fun j hj => cdig h _ (by omega) (by omega) (by omega) (by omega) (by omega)))
  have n1 := (nv_bd s 11 2 (by omega) (fun j hj => cdig h _ (by omega) (by omega) (by omega) (by omega) (by omega))).1
  have n2 := (nv_bd s 14 2 (by omega) (fun j hj => cdig h _ (by omega) (by omega) (by omega) (by omega) (by omega))).1
  generalize fcV (nv s 0 4) (nv s 5 2) (nv s 8 2) = V at *
  generalize nv s 11 2 = HH at *
  generalize nv s 14 2 = MM at *
  have z : (10 : Int) ≤ (s.size : Int) := by omega
  have C0 := hide (cl_new w)
  have B0 := hide ((Below.refl w.heap.size w).alloc (Nat.le_refl _) (.cells #[.int .i64 0, .int .i64 0] 55))
  have T0 := hide (T.keep B0.out)
  clear h hb hs T
  go_enter Tryd.func39, Tryd.ntmps39
  go_wp2_with fail
  refine (hf _).out.mono ?_
  rintro e w' ⟨rfl, n, rfl⟩
  have hq : Below (w.alloc (.cells #[.int .i64 0, .int .i64 0] 55)).heap.size (w.alloc (.cells #[.int .i64 0, .int .i64 0] 55)) ((w.alloc (.cells #[.int .i64 0, .int .i64 0] 55)).drewN n) := below_drewN (Below.refl _ _) n
  have C1 := hide (C0.out.keep hq)
  have T1 := hide (T0.out.keep hq)
  have B1 := hide (B0.out.trans (hq.mono B0.out.size))
  clear hq
  go_wp2_with fail
  refine (pa _ T1.out).out.mono ?_
  rintro e w1 ⟨rfl, hb⟩
  have C2 := hide (C1.out.keep hb)
  have B2 := hide (B1.out.trans (hb.mono B1.out.size))
  clear hb
  go_wp2_with fail
  refine (fo _).out.mono ?_
  rintro e w' ⟨rfl, rfl⟩
  have hq : Below w1.heap.size w1 (w1.alloc (.cells #[.string s] 9)) := (Below.refl _ _).alloc (Nat.le_refl _) _
  have C3 := hide (C2.out.keep hq)
  have B3 := hide (B2.out.trans (hq.mono B2.out.size))
  have hc0 : (w1.alloc (.cells #[.string s] 9)).cell? ⟨w1.heap.size, 0, none⟩ = some (.string s) := by simp [go_sem]
  have hg0 : w1.heap.size < (w1.alloc (.cells #[.string s] 9)).heap.size := by simp
  clear hq
  go_wp2_with fail
  generalize w1.alloc (.cells #[.string s] 9) = W at *
  refine (k1 _ _ hc0).out.mono ?_
  rintro e w2 ⟨rfl, hb⟩
  have hc1 := (hb.cell (p := ⟨w1.heap.size, 0, none⟩) hg0).trans hc0
  have C4 := hide (C3.out.keep hb)
  have B4 := hide (B3.out.trans (hb.mono B3.out.size))
  clear hb hc0 hg0
  go_wp2_with fail
  refine (k2 _ _ hc1).out.mono ?_
  rintro e w3 ⟨rfl, hb⟩
  obtain ⟨c0, c1, f0, f1, hlt⟩ := C4.out.keep hb
  have B5 := hide (B4.out.trans (hb.mono B4.out.size))
  clear hb hc1
  go_wp2_with fail
  exact bodyPost_ret (v := .tuple #[.agg #[.int .i64 0, .int .i64 0], .int .i64 2]) (by simp [results, Tryd.results39, go_sem, c0, c1]) rfl ⟨rfl, (B5.out.setCell (Nat.le_refl _) _).setCell (Nat.le_refl _) _⟩

set_option maxHeartbeats 4000000 in
set_option maxRecDepth 20000 in
theorem pc_rng2 (s : ByteArray) (w : World) (T : Tabs w) (h : HasForm s cform) (hb : fcE (nv s 0 4) (nv s 5 2) (nv s 8 2) = 0) (h1 : nv s 11 2 ≤ 23) (h2 : 59 < nv s 14 2) :
    Calls Tryd.prog 39 #[.string s] w fun e w' => e = .returned (.tuple #[.agg #[.int .i64 0, .int .i64 0], .int .i64 2]) ∧ Below w.heap.size w w' := by
  have hs : s.size = 16 := h.1
  have hf := fun w => hide (hf_yes s cform w (by decide) h)
  have pa := fun w T => hide (pa_yes (s.extract 0 10) w T (cd_form h))
  rw [nv_ext s 0 4 hs (by omega), nv_ext s 5 2 hs (by omega), nv_ext s 8 2 hs (by omega), hb] at pa
  have fo := fun w => hide (fo_any s w)
  have k1 : ∀ (g : Nat) (w : World), w.cell? ⟨g, 0, none⟩ = some (.string s) → Hid (Calls Tryd.prog 59 #[.int .i64 11, .int .i64 13, .pointer (some ⟨g, 0, none⟩)] w fun e w' => e = .returned (.int .i64 (nv s 11 2)) ∧ Below w.heap.size w w') := fun g w c => hide (fe_any s g 11 13 2 w c (by omega) (by omega) (by omega) (by omega) (fun j hj => cdig h _ (by omega) (by omega) (by omega) (by omega) (by omega)))
  have k2 : ∀ (g : Nat) (w : World), w.cell? ⟨g, 0, none⟩ = some (.string s) → Hid (Calls Tryd.prog 59 #[.int .i64 14, .int .i64 16, .pointer (some ⟨g, 0, none⟩)] w fun e w' => e = .returned (.int .i64 (nv s 14 2)) ∧ Below w.heap.size w w') := fun g w c => hide (fe_any s g 14 16 2 w c (by omega) (by omega) (by omega) (by omega) (fun j hj => cdig h _ (by omega) (by omega) (by omega) (by omega) (by omega)))
  have n1 := (nv_bd s 11 2 (by omega) (fun j hj => cdig h _ (by omega) (by omega) (by omega) (by omega) (by omega))).1
  have n2 := (nv_bd s 14 2 (by omega) (fun j hj => cdig h _ (by omega) (by omega) (by omega) (by omega) (by omega))).1
  generalize fcV (nv s 0 4) (nv s 5 2) (nv s 8 2) = V at *
  generalize nv s 11 2 = HH at *
  generalize nv s 14 2 = MM at *
  have z : (10 : Int) ≤ (s.size : Int) := by omega
  have C0 := hide (cl_new w)
  have B0 := hide ((Below.refl w.heap.size w).alloc (Nat.le_refl _) (.cells #[.int .i64 0, .int .i64 0] 55))
  have T0 := hide (T.keep B0.out)
  clear h hb hs T
  go_enter Tryd.func39, Tryd.ntmps39
  go_wp2_with fail
  refine (hf _).out.mono ?_
  rintro e w' ⟨rfl, n, rfl⟩
  have hq : Below (w.alloc (.cells #[.int .i64 0, .int .i64 0] 55)).heap.size (w.alloc (.cells #[.int .i64 0, .int .i64 0] 55)) ((w.alloc (.cells #[.int .i64 0, .int .i64 0] 55)).drewN n) := below_drewN (Below.refl _ _) n
  have C1 := hide (C0.out.keep hq)
  have T1 := hide (T0.out.keep hq)
  have B1 := hide (B0.out.trans (hq.mono B0.out.size))
  clear hq
  go_wp2_with fail
  refine (pa _ T1.out).out.mono ?_
  rintro e w1 ⟨rfl, hb⟩
  have C2 := hide (C1.out.keep hb)
  have B2 := hide (B1.out.trans (hb.mono B1.out.size))
  clear hb
  go_wp2_with fail
  refine (fo _).out.mono ?_
  rintro e w' ⟨rfl, rfl⟩
  have hq : Below w1.heap.size w1 (w1.alloc (.cells #[.string s] 9)) := (Below.refl _ _).alloc (Nat.le_refl _) _
  have C3 := hide (C2.out.keep hq)
  have B3 := hide (B2.out.trans (hq.mono B2.out.size))
  have hc0 : (w1.alloc (.cells #[.string s] 9)).cell? ⟨w1.heap.size, 0, none⟩ = some (.string s) := by simp [go_sem]
  have hg0 : w1.heap.size < (w1.alloc (.cells #[.string s] 9)).heap.size := by simp
  clear hq
  go_wp2_with fail
  generalize w1.alloc (.cells #[.string s] 9) = W at *
  refine (k1 _ _ hc0).out.mono ?_
  rintro e w2 ⟨rfl, hb⟩
  have hc1 := (hb.cell (p := ⟨w1.heap.size, 0, none⟩) hg0).trans hc0
  have C4 := hide (C3.out.keep hb)
  have B4 := hide (B3.out.trans (hb.mono B3.out.size))
  clear hb hc0 hg0
  go_wp2_with fail
  refine (k2 _ _ hc1).out.mono ?_
  rintro e w3 ⟨rfl, hb⟩
  obtain ⟨c0, c1, f0, f1, hlt⟩ := C4.out.keep hb
  have B5 := hide (B4.out.trans (hb.mono B4.out.size))
  clear hb hc1
  go_wp2_with fail
  exact bodyPost_ret (v := .tuple #[.agg #[.int .i64 0, .int .i64 0], .int .i64 2]) (by simp [results, Tryd.results39, go_sem, c0, c1]) rfl ⟨rfl, (B5.out.setCell (Nat.le_refl _) _).setCell (Nat.le_refl _) _⟩

set_option maxHeartbeats 4000000 in
set_option maxRecDepth 20000 in
theorem rpc_no (s : ByteArray) (w : World) (h : ¬ HasForm s cform) (hm : s.size ≤ maxLen) :
    Calls Tryd.prog 40 #[.string s] w fun e w' => e = .returned (.tuple #[.int .i64 0, .int .i64 0, .int .i64 3]) ∧ Below w.heap.size w w' := by
  have hf := fun w => hide (rsh_no s cform w (by decide) h hm)
  clear h hm
  go_enter Tryd.func40, Tryd.ntmps40
  go_wp2_with fail
  refine (hf _).out.mono ?_
  rintro e w' ⟨rfl, n, rfl⟩
  have HB := hide (below_drewN (Below.refl w.heap.size w) n)
  go_wp2_with fail
  exact bodyPost_ret (v := .tuple #[.int .i64 0, .int .i64 0, .int .i64 3]) (by simp [results, Tryd.results40, go_sem]) rfl ⟨rfl, HB.out⟩

set_option maxHeartbeats 4000000 in
set_option maxRecDepth 20000 in
theorem rpc_bad (s : ByteArray) (w : World) (h : HasForm s cform) (hb : fcE (nv s 0 4) (nv s 5 2) (nv s 8 2) = 28) :
    Calls Tryd.prog 40 #[.string s] w fun e w' => e = .returned (.tuple #[.int .i64 0, .int .i64 0, .int .i64 28]) ∧ Below w.heap.size w w' := by
  have hs : s.size = 16 := h.1
  have hf := fun w => hide (rsh_yes s cform w (by decide) h)
  have pa := fun w => hide (rpa_yes (s.extract 0 10) w (cd_form h))
  rw [nv_ext s 0 4 hs (by omega), nv_ext s 5 2 hs (by omega), nv_ext s 8 2 hs (by omega), hb] at pa
  generalize fcV (nv s 0 4) (nv s 5 2) (nv s 8 2) = V at *
  have z : (10 : Int) ≤ (s.size : Int) := by omega
  clear h hb hs
  go_enter Tryd.func40, Tryd.ntmps40
  go_wp2_with fail
  refine (hf _).out.mono ?_
  rintro e w' ⟨rfl, n, rfl⟩
  have B0 := hide (below_drewN (Below.refl w.heap.size w) n)
  generalize w.drewN n = W at *
  go_wp2_with fail
  refine (pa _).out.mono ?_
  rintro e w1 ⟨rfl, hb⟩
  have B1 := hide (B0.out.trans (hb.mono B0.out.size))
  clear hb
  go_wp2_with fail
  exact bodyPost_ret (v := .tuple #[.int .i64 0, .int .i64 0, .int .i64 28]) (by simp [results, Tryd.results40, go_sem]) rfl ⟨rfl, B1.out⟩

set_option maxHeartbeats 4000000 in
set_option maxRecDepth 20000 in
theorem rpc_yes (s : ByteArray) (w : World) (h : HasForm s cform) (hb : fcE (nv s 0 4) (nv s 5 2) (nv s 8 2) = 0) (h1 : nv s 11 2 ≤ 23) (h2 : nv s 14 2 ≤ 59) :
    Calls Tryd.prog 40 #[.string s] w fun e w' => e = .returned (.tuple #[.int .i64 (fcV (nv s 0 4) (nv s 5 2) (nv s 8 2)), .int .i64 (60 * nv s 11 2 + nv s 14 2), .int .i64 0]) ∧ Below w.heap.size w w' := by
  have hs : s.size = 16 := h.1
  have hf := fun w => hide (rsh_yes s cform w (by decide) h)
  have pa := fun w => hide (rpa_yes (s.extract 0 10) w (cd_form h))
  rw [nv_ext s 0 4 hs (by omega), nv_ext s 5 2 hs (by omega), nv_ext s 8 2 hs (by omega), hb] at pa
  have k1 : ∀ w, Calls Tryd.prog 54 #[.string (s.extract 11 13)] w fun e w' => e = .returned (.int .i64 (nv s 11 2)) ∧ w = w' := fun w => rnum_at s 11 13 2 w (by omega) (by omega) (by omega) (fun j hj => cdig h _ (by omega) (by omega) (by omega) (by omega) (by omega))
  have k2 : ∀ w, Calls Tryd.prog 54 #[.string (s.extract 14 s.size)] w fun e w' => e = .returned (.int .i64 (nv s 14 2)) ∧ w = w' := fun w => rnum_at s 14 s.size 2 w (by omega) (by omega) (by omega) (fun j hj => cdig h _ (by omega) (by omega) (by omega) (by omega) (by omega))
  have n1 := (nv_bd s 11 2 (by omega) (fun j hj => cdig h _ (by omega) (by omega) (by omega) (by omega) (by omega))).1
  have n2 := (nv_bd s 14 2 (by omega) (fun j hj => cdig h _ (by omega) (by omega) (by omega) (by omega) (by omega))).1
  generalize fcV (nv s 0 4) (nv s 5 2) (nv s 8 2) = V at *
  generalize nv s 11 2 = HH at *
  generalize nv s 14 2 = MM at *
  have z : (10 : Int) ≤ (s.size : Int) := by omega
  have z1 : (13 : Int) ≤ (s.size : Int) := by omega
  have z2 : (14 : Int) ≤ (s.size : Int) := by omega
  clear h hb hs
  go_enter Tryd.func40, Tryd.ntmps40
  go_wp2_with fail
  refine (hf _).out.mono ?_
  rintro e w' ⟨rfl, n, rfl⟩
  have B0 := hide (below_drewN (Below.refl w.heap.size w) n)
  generalize w.drewN n = W at *
  go_wp2_with fail
  refine (pa _).out.mono ?_
  rintro e w1 ⟨rfl, hb⟩
  have B1 := hide (B0.out.trans (hb.mono B0.out.size)).drew
  clear hb
  go_wp2_with fail
  go_region_held3 (fun w' => True) (exact trivial) (first | (go_at_call_of 54 (Value.string (s.extract 11 13)); refine (k1 _).mono ?_; rintro e w' ⟨rfl, rfl⟩) | (go_at_call_of 54 (Value.string (s.extract 14 s.size)); refine (k2 _).mono ?_; rintro e w' ⟨rfl, rfl⟩))
  all_goals go_wp2_with fail
  all_goals exact bodyPost_ret (v := .tuple #[.int .i64 V, .int .i64 (60 * HH + MM), .int .i64 0]) (by simp [results, Tryd.results40, go_sem]) rfl ⟨rfl, B1.out⟩

set_option maxHeartbeats 4000000 in
set_option maxRecDepth 20000 in
theorem rpc_rng1 (s : ByteArray) (w : World) (h : HasForm s cform) (hb : fcE (nv s 0 4) (nv s 5 2) (nv s 8 2) = 0) (h1 : 23 < nv s 11 2) :
    Calls Tryd.prog 40 #[.string s] w fun e w' => e = .returned (.tuple #[.int .i64 0, .int .i64 0, .int .i64 2]) ∧ Below w.heap.size w w' := by
  have hs : s.size = 16 := h.1
  have hf := fun w => hide (rsh_yes s cform w (by decide) h)
  have pa := fun w => hide (rpa_yes (s.extract 0 10) w (cd_form h))
  rw [nv_ext s 0 4 hs (by omega), nv_ext s 5 2 hs (by omega), nv_ext s 8 2 hs (by omega), hb] at pa
  have k1 : ∀ w, Calls Tryd.prog 54 #[.string (s.extract 11 13)] w fun e w' => e = .returned (.int .i64 (nv s 11 2)) ∧ w = w' := fun w => rnum_at s 11 13 2 w (by omega) (by omega) (by omega) (fun j hj => cdig h _ (by omega) (by omega) (by omega) (by omega) (by omega))
  have k2 : ∀ w, Calls Tryd.prog 54 #[.string (s.extract 14 s.size)] w fun e w' => e = .returned (.int .i64 (nv s 14 2)) ∧ w = w' := fun w => rnum_at s 14 s.size 2 w (by omega) (by omega) (by omega) (fun j hj => cdig h _ (by omega) (by omega) (by omega) (by omega) (by omega))
  have n1 := (nv_bd s 11 2 (by omega) (fun j hj => cdig h _ (by omega) (by omega) (by omega) (by omega) (by omega))).1
  have n2 := (nv_bd s 14 2 (by omega) (fun j hj => cdig h _ (by omega) (by omega) (by omega) (by omega) (by omega))).1
  generalize fcV (nv s 0 4) (nv s 5 2) (nv s 8 2) = V at *
  generalize nv s 11 2 = HH at *
  generalize nv s 14 2 = MM at *
  have z : (10 : Int) ≤ (s.size : Int) := by omega
  have z1 : (13 : Int) ≤ (s.size : Int) := by omega
  have z2 : (14 : Int) ≤ (s.size : Int) := by omega
  clear h hb hs
  go_enter Tryd.func40, Tryd.ntmps40
  go_wp2_with fail
  refine (hf _).out.mono ?_
  rintro e w' ⟨rfl, n, rfl⟩
  have B0 := hide (below_drewN (Below.refl w.heap.size w) n)
  generalize w.drewN n = W at *
  go_wp2_with fail
  refine (pa _).out.mono ?_
  rintro e w1 ⟨rfl, hb⟩
  have B1 := hide (B0.out.trans (hb.mono B0.out.size)).drew
  clear hb
  go_wp2_with fail
  go_region_held3 (fun w' => True) (exact trivial) (first | (go_at_call_of 54 (Value.string (s.extract 11 13)); refine (k1 _).mono ?_; rintro e w' ⟨rfl, rfl⟩) | (go_at_call_of 54 (Value.string (s.extract 14 s.size)); refine (k2 _).mono ?_; rintro e w' ⟨rfl, rfl⟩))
  all_goals go_wp2_with fail
  all_goals exact bodyPost_ret (v := .tuple #[.int .i64 0, .int .i64 0, .int .i64 2]) (by simp [results, Tryd.results40, go_sem]) rfl ⟨rfl, B1.out⟩

set_option maxHeartbeats 4000000 in
set_option maxRecDepth 20000 in
theorem rpc_rng2 (s : ByteArray) (w : World) (h : HasForm s cform) (hb : fcE (nv s 0 4) (nv s 5 2) (nv s 8 2) = 0) (h1 : nv s 11 2 ≤ 23) (h2 : 59 < nv s 14 2) :
    Calls Tryd.prog 40 #[.string s] w fun e w' => e = .returned (.tuple #[.int .i64 0, .int .i64 0, .int .i64 2]) ∧ Below w.heap.size w w' := by
  have hs : s.size = 16 := h.1
  have hf := fun w => hide (rsh_yes s cform w (by decide) h)
  have pa := fun w => hide (rpa_yes (s.extract 0 10) w (cd_form h))
  rw [nv_ext s 0 4 hs (by omega), nv_ext s 5 2 hs (by omega), nv_ext s 8 2 hs (by omega), hb] at pa
  have k1 : ∀ w, Calls Tryd.prog 54 #[.string (s.extract 11 13)] w fun e w' => e = .returned (.int .i64 (nv s 11 2)) ∧ w = w' := fun w => rnum_at s 11 13 2 w (by omega) (by omega) (by omega) (fun j hj => cdig h _ (by omega) (by omega) (by omega) (by omega) (by omega))
  have k2 : ∀ w, Calls Tryd.prog 54 #[.string (s.extract 14 s.size)] w fun e w' => e = .returned (.int .i64 (nv s 14 2)) ∧ w = w' := fun w => rnum_at s 14 s.size 2 w (by omega) (by omega) (by omega) (fun j hj => cdig h _ (by omega) (by omega) (by omega) (by omega) (by omega))
  have n1 := (nv_bd s 11 2 (by omega) (fun j hj => cdig h _ (by omega) (by omega) (by omega) (by omega) (by omega))).1
  have n2 := (nv_bd s 14 2 (by omega) (fun j hj => cdig h _ (by omega) (by omega) (by omega) (by omega) (by omega))).1
  generalize fcV (nv s 0 4) (nv s 5 2) (nv s 8 2) = V at *
  generalize nv s 11 2 = HH at *
  generalize nv s 14 2 = MM at *
  have z : (10 : Int) ≤ (s.size : Int) := by omega
  have z1 : (13 : Int) ≤ (s.size : Int) := by omega
  have z2 : (14 : Int) ≤ (s.size : Int) := by omega
  clear h hb hs
  go_enter Tryd.func40, Tryd.ntmps40
  go_wp2_with fail
  refine (hf _).out.mono ?_
  rintro e w' ⟨rfl, n, rfl⟩
  have B0 := hide (below_drewN (Below.refl w.heap.size w) n)
  generalize w.drewN n = W at *
  go_wp2_with fail
  refine (pa _).out.mono ?_
  rintro e w1 ⟨rfl, hb⟩
  have B1 := hide (B0.out.trans (hb.mono B0.out.size)).drew
  clear hb
  go_wp2_with fail
  go_region_held3 (fun w' => True) (exact trivial) (first | (go_at_call_of 54 (Value.string (s.extract 11 13)); refine (k1 _).mono ?_; rintro e w' ⟨rfl, rfl⟩) | (go_at_call_of 54 (Value.string (s.extract 14 s.size)); refine (k2 _).mono ?_; rintro e w' ⟨rfl, rfl⟩))
  all_goals go_wp2_with fail
  all_goals exact bodyPost_ret (v := .tuple #[.int .i64 0, .int .i64 0, .int .i64 2]) (by simp [results, Tryd.results40, go_sem]) rfl ⟨rfl, B1.out⟩

end Go.Proofs.YtahfjhmgmpbmkacDoor
