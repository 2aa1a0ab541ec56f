/-
  Contracts of the reference's Many and Largest at this translation.
-/
import Derived.Test.YtipgpmjhoaenlaaDoorP12
namespace Go.Proofs.YtipgpmjhoaenlaaDoor
open Go.RowKit
set_option linter.unusedVariables false
set_option linter.unusedSimpArgs false
set_option linter.unnecessarySimpa false

/-- What Many answers. -/
def mny (t : Tr) : Int := if alB t = true then (t.q - 1) / t.ml else 0
theorem mny_bd {t : Tr} (A : Al t) : 0 ≤ (t.q - 1) / t.ml ∧ (t.q - 1) / t.ml ≤ 1000000000000000 ∧ ∀ k, k ≤ (t.q - 1) / t.ml → k * t.ml ≤ t.q - 1 := by
  have q1 := A.g.q1
  have q2 := A.g.q2
  have l1 := A.l1
  have a : 0 ≤ (t.q - 1) / t.ml := Int.ediv_nonneg (by omega) (by omega)
  have b : (t.q - 1) / t.ml * t.ml ≤ t.q - 1 := Int.ediv_mul_le _ (by omega)
  refine ⟨a, ?_, fun k hk => Int.le_trans (Int.mul_le_mul_of_nonneg_right hk (by omega)) b⟩
  have := Int.mul_le_mul_of_nonneg_left l1 a
  omega
set_option maxHeartbeats 4000000 in
set_option maxRecDepth 20000 in
theorem many_any (t : Tr) (w : World) (h : t.Ok) : Calls Tryd.prog 21 #[.agg #[.int .i64 t.k, .string t.d, .string t.r, .string t.a, .int .i64 t.q, .int .i64 t.m, .int .i64 t.td, .int .i64 t.sd, .int .i64 t.p, .bool t.pa, .int .i64 t.ml, .string t.r0, .string t.r1]] w fun e w' => e = .returned (.int .i64 (mny t)) ∧ Below w.heap.size w w' := by
  have RA := fun w => hide (ral_any t w h)
  have HR := hide (one_alloc w (Obj.cells #[.int .i64 t.k, .string t.d, .string t.r, .string t.a, .int .i64 t.q, .int .i64 t.m, .int .i64 t.td, .int .i64 t.sd, .int .i64 t.p, .bool t.pa, .int .i64 t.ml, .string t.r0, .string t.r1] 24))
  have HB := hide (TB.new t w 24)
  clear h
  unfold mny
  cases ha : alB t
  · rw [ha] at RA
    rw [if_neg (by decide)]
    clear ha
    go_enter Tryd.func21, Tryd.ntmps21
    obtain ⟨_, c0, c1, c2, c3, c4, c5, c6, c7, c8, c9, c10, c11, c12⟩ := HB.out
    go_wp2_with fail
    refine ((RA _).out).mono ?_
    rintro e x1 ⟨rfl, hb⟩
    clear c0 c1 c2 c3 c4 c5 c6 c7 c8 c9 c10 c11 c12
    have HB := hide (HB.out.keep hb)
    have HR := hide (HR.out.trans (hb.mono HR.out.size))
    clear hb
    go_wp2_with fail
    go_ret
    exact ⟨rfl, HR.out⟩
  · have A := al_of ha
    have l1 := A.l1
    have q1 := A.g.q1
    have q2 := A.g.q2
    have lz : (t.ml == 0) = false := by simpa using (show ¬ t.ml = 0 by omega)
    rw [ha] at RA
    rw [if_pos rfl]
    clear ha A
    go_enter Tryd.func21, Tryd.ntmps21
    obtain ⟨_, c0, c1, c2, c3, c4, c5, c6, c7, c8, c9, c10, c11, c12⟩ := HB.out
    go_wp2_with fail
    refine ((RA _).out).mono ?_
    rintro e x1 ⟨rfl, hb⟩
    clear c0 c1 c2 c3 c4 c5 c6 c7 c8 c9 c10 c11 c12
    have HB := hide (HB.out.keep hb)
    have HR := hide (HR.out.trans (hb.mono HR.out.size))
    clear hb
    obtain ⟨_, c0, c1, c2, c3, c4, c5, c6, c7, c8, c9, c10, c11, c12⟩ := HB.out
    go_wp2_with fail
    go_ret
    exact ⟨rfl, HR.out⟩

/-- What stands behind the rounds so far. -/
structure Bst (t : Tr) (held room k best : Int) : Prop where
  up : ∀ j, 1 ≤ j → j < k → ftB t (j * t.ml) held room = true → j * t.ml ≤ best
  is : best = 0 ∨ ∃ j, 1 ≤ j ∧ j < k ∧ best = j * t.ml ∧ ftB t (j * t.ml) held room = true
theorem Bst.start (t : Tr) (held room : Int) : Bst t held room 1 0 := ⟨fun j a b _ => by omega, .inl rfl⟩
theorem Bst.miss {t : Tr} {held room k best : Int} (h : Bst t held room k best) (hf : ftB t (k * t.ml) held room = false) : Bst t held room (k + 1) best :=
  ⟨fun j a b c => by
    by_cases e : j = k
    · subst e; rw [hf] at c; cases c
    · exact h.up j a (by omega) c, h.is.imp id fun ⟨j, a, b, c, d⟩ => ⟨j, a, by omega, c, d⟩⟩
theorem Bst.hit {t : Tr} {held room k best : Int} (A : Al t) (k1 : 1 ≤ k) (h : Bst t held room k best) (hf : ftB t (k * t.ml) held room = true) : Bst t held room (k + 1) (k * t.ml) :=
  ⟨fun j a b c => Int.mul_le_mul_of_nonneg_right (by omega) (by have := A.l1; omega), .inr ⟨k, k1, by omega, rfl, hf⟩⟩
theorem Bst.done {t : Tr} {held room k best : Int} (ha : alB t = true) (h : Bst t held room k best) (hk : (t.q - 1) / t.ml < k) : best = lgV t held room := by
  have A := al_of ha
  have l1 := A.l1
  rw [lgV_al ha]
  split
  · rename_i hp
    obtain ⟨s1, f⟩ := ft_lgS A hp
    obtain ⟨p1, p2, _⟩ := pt_iff.1 hp
    have hS : lgS t held room ≤ (t.q - 1) / t.ml := (Int.le_ediv_iff_mul_le (by omega)).2 (by omega)
    have u := h.up _ s1 (by omega) f
    rcases h.is with e | ⟨j, j1, _, e, fj⟩
    · omega
    · have := Int.mul_le_mul_of_nonneg_right (ft_le A j1 fj).1 (show 0 ≤ t.ml by omega)
      omega
  · rename_i hp
    rcases h.is with e | ⟨j, j1, _, e, fj⟩
    · exact e
    · exact absurd (ft_le A j1 fj).2 hp
set_option maxHeartbeats 8000000 in
set_option maxRecDepth 20000 in
theorem rlargest_any (t : Tr) (held room : Int) (w : World) (h : t.Ok) :
    Calls Tryd.prog 23 #[.agg #[.int .i64 t.k, .string t.d, .string t.r, .string t.a, .int .i64 t.q, .int .i64 t.m, .int .i64 t.td, .int .i64 t.sd, .int .i64 t.p, .bool t.pa, .int .i64 t.ml, .string t.r0, .string t.r1], .int .i64 held, .int .i64 room] w fun e w' => e = .returned (.tuple #[.int .i64 (lgV t held room), .int .i64 (lgE t)]) ∧ Below w.heap.size w w' := by
  have CK := fun w => hide (rcheck_any t w h)
  have RA := fun w => hide (ral_any t w h)
  have HR := hide (one_alloc w (Obj.cells #[.int .i64 t.k, .string t.d, .string t.r, .string t.a, .int .i64 t.q, .int .i64 t.m, .int .i64 t.td, .int .i64 t.sd, .int .i64 t.p, .bool t.pa, .int .i64 t.ml, .string t.r0, .string t.r1] 24))
  have HB := hide (TB.new t w 24)
  cases ha : alB t
  · have e0 : lgV t held room = 0 := by unfold lgV; rw [if_pos (lgE_no ha)]
    rw [e0]
    rw [ha] at RA
    unfold lgE
    by_cases hE : tE t = 0
    · rw [if_neg (fun h => h hE), if_pos ha]
      rw [hE] at CK
      clear h ha e0 hE
      go_enter Tryd.func23, Tryd.ntmps23
      obtain ⟨_, c0, c1, c2, c3, c4, c5, c6, c7, c8, c9, c10, c11, c12⟩ := HB.out
      go_wp2_with fail
      refine ((CK _).out).mono ?_
      rintro e x1 ⟨rfl, hb⟩
      clear c0 c1 c2 c3 c4 c5 c6 c7 c8 c9 c10 c11 c12
      have HB := hide (HB.out.keep hb)
      have HR := hide (HR.out.trans (hb.mono HR.out.size))
      clear hb
      obtain ⟨_, c0, c1, c2, c3, c4, c5, c6, c7, c8, c9, c10, c11, c12⟩ := HB.out
      go_wp2_with fail
      refine ((RA _).out).mono ?_
      rintro e x2 ⟨rfl, hb⟩
      clear c0 c1 c2 c3 c4 c5 c6 c7 c8 c9 c10 c11 c12
      have HR := hide (HR.out.trans (hb.mono HR.out.size))
      clear hb
      go_wp2_with fail
      go_ret2
      exact ⟨rfl, HR.out⟩
    · rw [if_pos hE]
      have e1 : (tE t != 0) = true := by simpa using hE
      generalize tE t = E at *
      clear h ha e0 hE RA
      go_enter Tryd.func23, Tryd.ntmps23
      obtain ⟨_, c0, c1, c2, c3, c4, c5, c6, c7, c8, c9, c10, c11, c12⟩ := HB.out
      go_wp2_with fail
      refine ((CK _).out).mono ?_
      rintro e x1 ⟨rfl, hb⟩
      clear c0 c1 c2 c3 c4 c5 c6 c7 c8 c9 c10 c11 c12
      have HR := hide (HR.out.trans (hb.mono HR.out.size))
      clear hb
      go_wp2_with fail
      go_ret2
      exact ⟨rfl, HR.out⟩
  · have A := al_of ha
    have l1 := A.l1
    have q2 := A.g.q2
    obtain ⟨M0, M1, M2⟩ := mny_bd A
    have MN := fun w => hide (many_any t w h)
    have em : mny t = (t.q - 1) / t.ml := if_pos ha
    rw [em] at MN
    have FT := fun n w => hide (fits_any t n held room w h ha)
    have DN := hide (fun k best (hb : Bst t held room k best) hk => hb.done ha hk)
    have HA := hide A
    rw [lgE_al ha]
    rw [A.e] at CK
    rw [ha] at RA
    generalize lgV t held room = R at *
    have M2 := hide M2
    clear h ha A em
    generalize (t.q - 1) / t.ml = Mn at *
    go_enter Tryd.func23, Tryd.ntmps23
    obtain ⟨_, c0, c1, c2, c3, c4, c5, c6, c7, c8, c9, c10, c11, c12⟩ := HB.out
    go_wp2_with fail
    refine ((CK _).out).mono ?_
    rintro e x1 ⟨rfl, hb⟩
    clear c0 c1 c2 c3 c4 c5 c6 c7 c8 c9 c10 c11 c12
    have HB := hide (HB.out.keep hb)
    have HR := hide (HR.out.trans (hb.mono HR.out.size))
    clear hb
    obtain ⟨_, c0, c1, c2, c3, c4, c5, c6, c7, c8, c9, c10, c11, c12⟩ := HB.out
    go_wp2_with fail
    refine ((RA _).out).mono ?_
    rintro e x2 ⟨rfl, hb⟩
    clear c0 c1 c2 c3 c4 c5 c6 c7 c8 c9 c10 c11 c12
    have HB := hide (HB.out.keep hb)
    have HR := hide (HR.out.trans (hb.mono HR.out.size))
    clear hb
    go_wp2_with fail
    go_loopw [9, 10] (fun s9 s10 wr => ∃ best k : Int, s9 = .int .i64 best ∧ s10 = .int .i64 k ∧ 1 ≤ k ∧ k ≤ Mn + 1 ∧ Hid (Bst t held room k best) ∧ Hid (TB w.heap.size t wr) ∧ Hid (Below w.heap.size w wr)) (fun _ s10 _ => (Mn + 1 - intOf s10).toNat)
    case atStart => exact ⟨0, 1, rfl, rfl, by omega, by omega, hide (Bst.start t held room), HB, HR⟩
    case round =>
      clear HB HR
      obtain ⟨best, k, rfl, rfl, k1, k2, BI, HB, HR⟩ := hrel
      by_cases hk : k ≤ Mn
      · have hm := M2.out k hk
        have hm0 : 0 ≤ k * t.ml := Int.mul_nonneg (by omega) (by omega)
        have hw : wrap64 (k * t.ml) = k * t.ml := by unfold wrap64; omega
        have hw2 : IntKind.i64.wrap (k * t.ml) = k * t.ml := by rw [IntKind.wrap_i64]; omega
        have F := fun w => FT (k * t.ml) w
        clear hm hm0
        cases hf : ftB t (k * t.ml) held room
        · rw [hf] at F
          have BI := hide (BI.out.miss hf)
          clear hf
          obtain ⟨_, c0, c1, c2, c3, c4, c5, c6, c7, c8, c9, c10, c11, c12⟩ := HB.out
          go_wp2_with fail
          refine ((MN _).out).mono ?_
          rintro e y1 ⟨rfl, hb⟩
          clear c0 c1 c2 c3 c4 c5 c6 c7 c8 c9 c10 c11 c12
          have HB := hide (HB.out.keep hb)
          have HR := hide (HR.out.trans (hb.mono HR.out.size))
          clear hb
          obtain ⟨_, c0, c1, c2, c3, c4, c5, c6, c7, c8, c9, c10, c11, c12⟩ := HB.out
          go_wp2_with fail
          refine ((F _).out).mono ?_
          rintro e y2 ⟨rfl, hb⟩
          clear c0 c1 c2 c3 c4 c5 c6 c7 c8 c9 c10 c11 c12
          have HB := hide (HB.out.keep hb)
          have HR := hide (HR.out.trans (hb.mono HR.out.size))
          clear hb
          go_wp2_with fail
          go_roundw
          case rel => exact ⟨best, k + 1, rfl, by go_simp, by omega, by omega, BI, HB, HR⟩
          case measure => simp [intOf]; omega
        · rw [hf] at F
          have BI := hide (BI.out.hit HA.out k1 hf)
          clear hf
          obtain ⟨_, c0, c1, c2, c3, c4, c5, c6, c7, c8, c9, c10, c11, c12⟩ := HB.out
          go_wp2_with fail
          refine ((MN _).out).mono ?_
          rintro e y1 ⟨rfl, hb⟩
          clear c0 c1 c2 c3 c4 c5 c6 c7 c8 c9 c10 c11 c12
          have HB := hide (HB.out.keep hb)
          have HR := hide (HR.out.trans (hb.mono HR.out.size))
          clear hb
          obtain ⟨_, c0, c1, c2, c3, c4, c5, c6, c7, c8, c9, c10, c11, c12⟩ := HB.out
          go_wp2_with fail
          refine ((F _).out).mono ?_
          rintro e y2 ⟨rfl, hb⟩
          clear c0 c1 c2 c3 c4 c5 c6 c7 c8 c9 c10 c11 c12
          have HB := hide (HB.out.keep hb)
          have HR := hide (HR.out.trans (hb.mono HR.out.size))
          clear hb
          obtain ⟨_, c0, c1, c2, c3, c4, c5, c6, c7, c8, c9, c10, c11, c12⟩ := HB.out
          go_wp2_with fail
          clear c0 c1 c2 c3 c4 c5 c6 c7 c8 c9 c10 c11 c12
          go_roundw
          case rel => exact ⟨k * t.ml, k + 1, rfl, by go_simp, by omega, by omega, BI, HB, HR⟩
          case measure => simp [intOf]; omega
      · have e := DN.out k best BI.out (by omega)
        have hk' : Mn < k := by omega
        have HE := hide e
        clear hk e
        obtain ⟨_, c0, c1, c2, c3, c4, c5, c6, c7, c8, c9, c10, c11, c12⟩ := HB.out
        go_wp2_with fail
        refine ((MN _).out).mono ?_
        rintro e y1 ⟨rfl, hb⟩
        clear c0 c1 c2 c3 c4 c5 c6 c7 c8 c9 c10 c11 c12
        have HR := hide (HR.out.trans (hb.mono HR.out.size))
        clear hb
        go_wp2_with fail
        go_ret2
        exact ⟨ret_ii HE.out rfl, HR.out⟩
end Go.Proofs.YtipgpmjhoaenlaaDoor
