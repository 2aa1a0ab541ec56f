/-
  Contracts at this translation: the reference's Parse at a text of the form.
-/
import Derived.Test.YtahfjhmgmpbmkacDoorDaG
import Derived.Laws.Slices
import Derived.StillTailTactics
import Derived.Deep.RegionHeld3
namespace Go.Proofs.YtahfjhmgmpbmkacDoor
open Go.RowKit
set_option linter.unusedVariables false

theorem sl_to (s : ByteArray) (b : Nat) (hb : b ≤ s.size) (w : World) :
    (Instr.slice 9 (.string s) none (some (.int .i64 (b : Int))) none).run Tryd.prog w = .ok (.string (s.extract 0 b)) w :=
  by
    have := Go.run_slice_string_h (P := Tryd.prog) (s := s) (w := w) (t := 9) Tryd.underlying9 .i64 b (by omega) (by omega)
    simpa using this
theorem sl_from (s : ByteArray) (a : Nat) (ha : a ≤ s.size) (w : World) :
    (Instr.slice 9 (.string s) (some (.int .i64 (a : Int))) none none).run Tryd.prog w = .ok (.string (s.extract a s.size)) w :=
  by
    have := Go.run_slice_string_l (P := Tryd.prog) (s := s) (w := w) (t := 9) Tryd.underlying9 .i64 a (by omega) (by omega)
    simpa using this

theorem rnum_as (s : ByteArray) (a b k : Nat) (w : World) (hb : b ≤ s.size) (hk : b = a + k) (h4 : k ≤ 4) (hd : ∀ j, j < k → 48 ≤ gB s (a + j) ∧ gB s (a + j) ≤ 57) :
    Calls Tryd.prog 54 #[.string (s.extract a b)] w fun e w' => e = .returned (.int .i64 (nv s a k)) ∧ w' = w :=
  (rnum_at s a b k w hb hk h4 hd).mono fun _ _ h => ⟨h.1, h.2.symm⟩
set_option maxHeartbeats 4000000 in
set_option maxRecDepth 20000 in
theorem rpa_yes (s : ByteArray) (w : World) (h : HasForm s dform) :
    Calls Tryd.prog 38 #[.string s] w fun e w' => e = .returned (.tuple #[.int .i64 (fcV (nv s 0 4) (nv s 5 2) (nv s 8 2)), .int .i64 (fcE (nv s 0 4) (nv s 5 2) (nv s 8 2))]) ∧ Below w.heap.size w w' := by
  have hs : s.size = 10 := h.1
  have hf := fun w => hide (rsh_yes s dform w (by decide) h)
  have z1 : (4 : Int) ≤ (s.size : Int) := by omega
  have z2 : (7 : Int) ≤ (s.size : Int) := by omega
  have z3 : (8 : Int) ≤ (s.size : Int) := by omega
  have f1 : ∀ w, Calls Tryd.prog 54 #[.string (s.extract 0 4)] w fun e w' => e = .returned (.int .i64 (nv s 0 4)) ∧ w' = w := fun w => rnum_as s 0 4 4 w (by omega) (by omega) (by omega) (fun j hj => dig h _ (by omega) (by omega) (by omega))
  have f2 : ∀ w, Calls Tryd.prog 54 #[.string (s.extract 5 7)] w fun e w' => e = .returned (.int .i64 (nv s 5 2)) ∧ w' = w := fun w => rnum_as s 5 7 2 w (by omega) (by omega) (by omega) (fun j hj => dig h _ (by omega) (by omega) (by omega))
  have f3 : ∀ w, Calls Tryd.prog 54 #[.string (s.extract 8 s.size)] w fun e w' => e = .returned (.int .i64 (nv s 8 2)) ∧ w' = w := fun w => rnum_as s 8 s.size 2 w (by omega) (by omega) (by omega) (fun j hj => dig h _ (by omega) (by omega) (by omega))
  have bY := nv_bd s 0 4 (by omega) (fun j hj => dig h _ (by omega) (by omega) (by omega))
  clear h hs
  generalize nv s 0 4 = Y at *
  generalize nv s 5 2 = M at *
  generalize nv s 8 2 = D at *
  have rv := fun W => hide (rvalid_any Y M D W)
  by_cases hv : 1 ≤ D ∧ D ≤ dim Y M
  · obtain ⟨y1, y2, p1, p2⟩ := dim_pos (y := Y) (m := M) (by omega)
    obtain ⟨k, rfl⟩ : ∃ k : Nat, M = (k : Int) + 1 := ⟨(M - 1).toNat, by omega⟩
    have hd := (dim_bd Y ((k : Int) + 1)).2
    have rf := fun W => hide (rfrom_in Y D k W y1 y2 (by omega) hv.1 (by omega))
    have e1 : fcV Y ((k : Int) + 1) D = NY Y + cum Y k + D - 1 := by
      unfold fcV num; rw [if_pos hv, show ((k : Int) + 1 - 1).toNat = k by omega]; omega
    have e2 : fcE Y ((k : Int) + 1) D = 0 := by unfold fcE; rw [if_pos hv]
    have e3 : okD Y ((k : Int) + 1) D = true := decide_eq_true hv
    rw [e1, e2]
    rw [e3] at rv
    clear e1 e2 e3 hv hd y1 y2 p1 p2
    generalize NY Y + cum Y k + D - 1 = V at *
    generalize (k : Int) + 1 = M at *
    go_enter Tryd.func38, Tryd.ntmps38
    go_wp2_with fail
    refine (hf _).out.mono ?_
    rintro e w' ⟨rfl, n, rfl⟩
    have B0 := hide (below_drewN (Below.refl w.heap.size w) n)
    generalize w.drewN n = W at *
    go_wp2_with fail
    have B1 := hide (B0.out.drew)
    have B2 := fun o => hide (B1.out.alloc B1.out.size o)
    have H5 : Hid (Three W.heap.size Y M D (W.drew.alloc (.cells #[.int .i64 Y, .int .i64 M, .int .i64 D] 32))) := hide (three_new W.drew Y M D 32)
    go_region_held3 (fun w' => True) (exact trivial) (first | (go_at_call_of 54 (Value.string (s.extract 0 4)); refine (f1 _).mono ?_; rintro e w' ⟨rfl, rfl⟩) | (go_at_call_of 54 (Value.string (s.extract 5 7)); refine (f2 _).mono ?_; rintro e w' ⟨rfl, rfl⟩) | (go_at_call_of 54 (Value.string (s.extract 8 s.size)); refine (f3 _).mono ?_; rintro e w' ⟨rfl, rfl⟩))
    all_goals go_wp2_with fail
    all_goals
      obtain ⟨g0, g1, g2, glt⟩ := H5.out
      refine (rv _).out.mono ?_
      rintro e w3 ⟨rfl, hb⟩
      have B4 := hide ((B2 _).out.trans (hb.mono (B2 _).out.size))
      clear g0 g1 g2 glt
      obtain ⟨g0, g1, g2, glt⟩ := H5.out.keep hb
      clear hb
      go_wp2_with fail
      refine (rf _).out.mono ?_
      rintro e w4 ⟨rfl, hb⟩
      have B5 := hide (B4.out.trans (hb.mono B4.out.size))
      clear hb
      go_wp2_with fail
      go_ret2
      exact ⟨rfl, B5.out⟩
  · have e1 : fcV Y M D = 0 := by unfold fcV; rw [if_neg hv]
    have e2 : fcE Y M D = 28 := by unfold fcE; rw [if_neg hv]
    have e3 : okD Y M D = false := decide_eq_false hv
    rw [e1, e2]
    rw [e3] at rv
    clear e1 e2 e3 hv
    go_enter Tryd.func38, Tryd.ntmps38
    go_wp2_with fail
    refine (hf _).out.mono ?_
    rintro e w' ⟨rfl, n, rfl⟩
    have B0 := hide (below_drewN (Below.refl w.heap.size w) n)
    generalize w.drewN n = W at *
    go_wp2_with fail
    have B1 := hide (B0.out.drew)
    have B2 := fun o => hide (B1.out.alloc B1.out.size o)
    have H5 : Hid (Three W.heap.size Y M D (W.drew.alloc (.cells #[.int .i64 Y, .int .i64 M, .int .i64 D] 32))) := hide (three_new W.drew Y M D 32)
    go_region_held3 (fun w' => True) (exact trivial) (first | (go_at_call_of 54 (Value.string (s.extract 0 4)); refine (f1 _).mono ?_; rintro e w' ⟨rfl, rfl⟩) | (go_at_call_of 54 (Value.string (s.extract 5 7)); refine (f2 _).mono ?_; rintro e w' ⟨rfl, rfl⟩) | (go_at_call_of 54 (Value.string (s.extract 8 s.size)); refine (f3 _).mono ?_; rintro e w' ⟨rfl, rfl⟩))
    all_goals go_wp2_with fail
    all_goals
      obtain ⟨g0, g1, g2, glt⟩ := H5.out
      refine (rv _).out.mono ?_
      rintro e w3 ⟨rfl, hb⟩
      have B4 := hide ((B2 _).out.trans (hb.mono (B2 _).out.size))
      clear hb
      go_wp2_with fail
      go_ret2
      exact ⟨rfl, B4.out⟩
end Go.Proofs.YtahfjhmgmpbmkacDoor
