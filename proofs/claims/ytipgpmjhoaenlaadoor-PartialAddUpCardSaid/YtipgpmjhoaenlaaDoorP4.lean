/-
  Contract of the reference's check of a trade at this translation.
-/
import Derived.Test.YtipgpmjhoaenlaaDoorP3
namespace Go.Proofs.YtipgpmjhoaenlaaDoor
open Go.RowKit
set_option linter.unusedVariables false
set_option linter.unusedSimpArgs false

set_option maxHeartbeats 16000000 in
theorem rcheck_any (t : Tr) (w : World) (h : t.Ok) : Calls Tryd.prog 25 #[.agg #[.int .i64 t.k, .string t.d, .string t.r, .string t.a, .int .i64 t.q, .int .i64 t.m, .int .i64 t.td, .int .i64 t.sd, .int .i64 t.p, .bool t.pa, .int .i64 t.ml, .string t.r0, .string t.r1]] w fun e w' => e = .returned (.int .i64 (tE t)) ∧ Below w.heap.size w w' := by
  have D1 := fun w => hide (rok_any 1 t.d w h.d)
  have D2 := fun w => hide (rok_any 1 t.r w h.r)
  have D3 := fun w => hide (rok_any 0 t.a w h.a)
  have D4 := fun w => hide (rok_any 2 t.r0 w h.r0)
  have D5 := fun w => hide (rok_any 2 t.r1 w h.r1)
  clear h
  unfold tE
  generalize okI 1 t.d = B1 at *
  generalize okI 1 t.r = B2 at *
  generalize okI 0 t.a = B3 at *
  generalize okI 2 t.r0 = B4 at *
  generalize okI 2 t.r1 = B5 at *
  have HR := hide (one_alloc w (Obj.cells #[.int .i64 t.k, .string t.d, .string t.r, .string t.a, .int .i64 t.q, .int .i64 t.m, .int .i64 t.td, .int .i64 t.sd, .int .i64 t.p, .bool t.pa, .int .i64 t.ml, .string t.r0, .string t.r1] 24))
  have HB := hide (TB.new t w 24)
  by_cases k1 : t.k = 1
  · have kk : (t.k != 1) = false := by simpa using k1
    have kq : (t.k == 1) = true := by simpa using k1
    have kr : (t.k == 2) = false := by simpa using (show ¬ t.k = 2 by omega)
    have hk := hide k1
    clear k1
    go_enter Tryd.func25, Tryd.ntmps25
    cases B1
    · obtain ⟨_, c0, c1, c2, c3, c4, c5, c6, c7, c8, c9, c10, c11, c12⟩ := HB.out
      go_wp2_with fail
      refine ((D1 _).out).mono ?_
      rintro e x25 ⟨rfl, hb⟩
      have HB := hide (HB.out.keep hb)
      have HR := hide (HR.out.trans (hb.mono HR.out.size))
      clear hb c0 c1 c2 c3 c4 c5 c6 c7 c8 c9 c10 c11 c12
      obtain ⟨_, c0, c1, c2, c3, c4, c5, c6, c7, c8, c9, c10, c11, c12⟩ := HB.out
      go_wp2_with fail
      go_ret
      exact ⟨ret_i (by simp [tEb, hk.out]), HR.out⟩
    · obtain ⟨_, c0, c1, c2, c3, c4, c5, c6, c7, c8, c9, c10, c11, c12⟩ := HB.out
      go_wp2_with fail
      refine ((D1 _).out).mono ?_
      rintro e x26 ⟨rfl, hb⟩
      have HB := hide (HB.out.keep hb)
      have HR := hide (HR.out.trans (hb.mono HR.out.size))
      clear hb c0 c1 c2 c3 c4 c5 c6 c7 c8 c9 c10 c11 c12
      cases B2
      · obtain ⟨_, c0, c1, c2, c3, c4, c5, c6, c7, c8, c9, c10, c11, c12⟩ := HB.out
        go_wp2_with fail
        refine ((D2 _).out).mono ?_
        rintro e x27 ⟨rfl, hb⟩
        have HB := hide (HB.out.keep hb)
        have HR := hide (HR.out.trans (hb.mono HR.out.size))
        clear hb c0 c1 c2 c3 c4 c5 c6 c7 c8 c9 c10 c11 c12
        obtain ⟨_, c0, c1, c2, c3, c4, c5, c6, c7, c8, c9, c10, c11, c12⟩ := HB.out
        go_wp2_with fail
        go_ret
        exact ⟨ret_i (by simp [tEb, hk.out]), HR.out⟩
      · obtain ⟨_, c0, c1, c2, c3, c4, c5, c6, c7, c8, c9, c10, c11, c12⟩ := HB.out
        go_wp2_with fail
        refine ((D2 _).out).mono ?_
        rintro e x28 ⟨rfl, hb⟩
        have HB := hide (HB.out.keep hb)
        have HR := hide (HR.out.trans (hb.mono HR.out.size))
        clear hb c0 c1 c2 c3 c4 c5 c6 c7 c8 c9 c10 c11 c12
        cases hs : (t.d.toList == t.r.toList)
        · have HQ := hide hs
          cases B3
          · obtain ⟨_, c0, c1, c2, c3, c4, c5, c6, c7, c8, c9, c10, c11, c12⟩ := HB.out
            go_wp2_with fail
            refine ((D3 _).out).mono ?_
            rintro e x29 ⟨rfl, hb⟩
            have HB := hide (HB.out.keep hb)
            have HR := hide (HR.out.trans (hb.mono HR.out.size))
            clear hb c0 c1 c2 c3 c4 c5 c6 c7 c8 c9 c10 c11 c12
            obtain ⟨_, c0, c1, c2, c3, c4, c5, c6, c7, c8, c9, c10, c11, c12⟩ := HB.out
            go_wp2_with fail
            go_ret
            exact ⟨ret_i (by simp [tEb, hk.out, HQ.out]), HR.out⟩
          · obtain ⟨_, c0, c1, c2, c3, c4, c5, c6, c7, c8, c9, c10, c11, c12⟩ := HB.out
            go_wp2_with fail
            refine ((D3 _).out).mono ?_
            rintro e x30 ⟨rfl, hb⟩
            have HB := hide (HB.out.keep hb)
            have HR := hide (HR.out.trans (hb.mono HR.out.size))
            clear hb c0 c1 c2 c3 c4 c5 c6 c7 c8 c9 c10 c11 c12
            have hk1 := hk.out
            obtain ⟨_, c0, c1, c2, c3, c4, c5, c6, c7, c8, c9, c10, c11, c12⟩ := HB.out
            go_wp2_with fail
            all_goals first
              | (go_ret
                 refine ⟨ret_i ?_, HR.out⟩
                 clear c0 c1 c2 c3 c4 c5 c6 c7 c8 c9 c10 c11 c12 hs
                 have HN : nE t = 2 := by
                   go_light
                   unfold nE
                   simp only [bne_iff_ne, bne_eq_false_iff_eq, beq_iff_eq, beq_eq_false_iff_ne, ne_eq] at *
                   repeat' split
                   all_goals first | rfl | (exfalso; simp_all; done) | (exfalso; simp_all; omega) | omega
                 simp [tEb, hk.out, HQ.out, HN])
              | (go_ret
                 refine ⟨ret_i ?_, HR.out⟩
                 clear c0 c1 c2 c3 c4 c5 c6 c7 c8 c9 c10 c11 c12 hs
                 have HN : nE t = 28 := by
                   go_light
                   unfold nE
                   simp only [bne_iff_ne, bne_eq_false_iff_eq, beq_iff_eq, beq_eq_false_iff_ne, ne_eq] at *
                   repeat' split
                   all_goals first | rfl | (exfalso; simp_all; done) | (exfalso; simp_all; omega) | omega
                 simp [tEb, hk.out, HQ.out, HN])
              | (refine (D4 _).out.mono ?_
                 rintro e y1 ⟨rfl, hb⟩
                 have HB := hide (HB.out.keep hb)
                 have HR := hide (HR.out.trans (hb.mono HR.out.size))
                 clear hb c0 c1 c2 c3 c4 c5 c6 c7 c8 c9 c10 c11 c12
                 have HN : nE t = 0 := by
                   go_light
                   unfold nE
                   simp only [bne_iff_ne, bne_eq_false_iff_eq, beq_iff_eq, beq_eq_false_iff_ne, ne_eq] at *
                   repeat' split
                   all_goals first | rfl | (exfalso; simp_all; done) | (exfalso; simp_all; omega) | omega
                 replace HN := hide HN
                 cases B4
                 · obtain ⟨_, c0, c1, c2, c3, c4, c5, c6, c7, c8, c9, c10, c11, c12⟩ := HB.out
                   go_wp2_with fail
                   go_ret
                   exact ⟨ret_i (by simp [tEb, hk.out, HQ.out, HN.out]), HR.out⟩
                 · cases B5
                   · obtain ⟨_, c0, c1, c2, c3, c4, c5, c6, c7, c8, c9, c10, c11, c12⟩ := HB.out
                     go_wp2_with fail
                     refine ((D5 _).out).mono ?_
                     rintro e x31 ⟨rfl, hb⟩
                     have HB := hide (HB.out.keep hb)
                     have HR := hide (HR.out.trans (hb.mono HR.out.size))
                     clear hb c0 c1 c2 c3 c4 c5 c6 c7 c8 c9 c10 c11 c12
                     obtain ⟨_, c0, c1, c2, c3, c4, c5, c6, c7, c8, c9, c10, c11, c12⟩ := HB.out
                     go_wp2_with fail
                     go_ret
                     exact ⟨ret_i (by simp [tEb, hk.out, HQ.out, HN.out]), HR.out⟩
                   · obtain ⟨_, c0, c1, c2, c3, c4, c5, c6, c7, c8, c9, c10, c11, c12⟩ := HB.out
                     go_wp2_with fail
                     refine ((D5 _).out).mono ?_
                     rintro e x32 ⟨rfl, hb⟩
                     have HB := hide (HB.out.keep hb)
                     have HR := hide (HR.out.trans (hb.mono HR.out.size))
                     clear hb c0 c1 c2 c3 c4 c5 c6 c7 c8 c9 c10 c11 c12
                     obtain ⟨_, c0, c1, c2, c3, c4, c5, c6, c7, c8, c9, c10, c11, c12⟩ := HB.out
                     go_wp2_with fail
                     go_ret
                     exact ⟨ret_i (by simp [tEb, hk.out, HQ.out, HN.out]), HR.out⟩)
        · have HQ := hide hs
          obtain ⟨_, c0, c1, c2, c3, c4, c5, c6, c7, c8, c9, c10, c11, c12⟩ := HB.out
          go_wp2_with fail
          go_ret
          exact ⟨ret_i (by simp [tEb, hk.out, HQ.out]), HR.out⟩
  · by_cases k2 : t.k = 2
    · have kk : (t.k != 1) = true := by simpa using k1
      have kl : (t.k != 2) = false := by simpa using k2
      have kq : (t.k == 1) = false := by simpa using k1
      have kr : (t.k == 2) = true := by simpa using k2
      have hk := hide k2
      clear k1 k2
      go_enter Tryd.func25, Tryd.ntmps25
      cases B1
      · obtain ⟨_, c0, c1, c2, c3, c4, c5, c6, c7, c8, c9, c10, c11, c12⟩ := HB.out
        go_wp2_with fail
        refine ((D1 _).out).mono ?_
        rintro e x33 ⟨rfl, hb⟩
        have HB := hide (HB.out.keep hb)
        have HR := hide (HR.out.trans (hb.mono HR.out.size))
        clear hb c0 c1 c2 c3 c4 c5 c6 c7 c8 c9 c10 c11 c12
        obtain ⟨_, c0, c1, c2, c3, c4, c5, c6, c7, c8, c9, c10, c11, c12⟩ := HB.out
        go_wp2_with fail
        go_ret
        exact ⟨ret_i (by simp [tEb, hk.out]), HR.out⟩
      · obtain ⟨_, c0, c1, c2, c3, c4, c5, c6, c7, c8, c9, c10, c11, c12⟩ := HB.out
        go_wp2_with fail
        refine ((D1 _).out).mono ?_
        rintro e x34 ⟨rfl, hb⟩
        have HB := hide (HB.out.keep hb)
        have HR := hide (HR.out.trans (hb.mono HR.out.size))
        clear hb c0 c1 c2 c3 c4 c5 c6 c7 c8 c9 c10 c11 c12
        cases B2
        · obtain ⟨_, c0, c1, c2, c3, c4, c5, c6, c7, c8, c9, c10, c11, c12⟩ := HB.out
          go_wp2_with fail
          refine ((D2 _).out).mono ?_
          rintro e x35 ⟨rfl, hb⟩
          have HB := hide (HB.out.keep hb)
          have HR := hide (HR.out.trans (hb.mono HR.out.size))
          clear hb c0 c1 c2 c3 c4 c5 c6 c7 c8 c9 c10 c11 c12
          obtain ⟨_, c0, c1, c2, c3, c4, c5, c6, c7, c8, c9, c10, c11, c12⟩ := HB.out
          go_wp2_with fail
          go_ret
          exact ⟨ret_i (by simp [tEb, hk.out]), HR.out⟩
        · obtain ⟨_, c0, c1, c2, c3, c4, c5, c6, c7, c8, c9, c10, c11, c12⟩ := HB.out
          go_wp2_with fail
          refine ((D2 _).out).mono ?_
          rintro e x36 ⟨rfl, hb⟩
          have HB := hide (HB.out.keep hb)
          have HR := hide (HR.out.trans (hb.mono HR.out.size))
          clear hb c0 c1 c2 c3 c4 c5 c6 c7 c8 c9 c10 c11 c12
          cases hs : (t.d.toList == t.r.toList)
          · have HQ := hide hs
            cases B3
            · obtain ⟨_, c0, c1, c2, c3, c4, c5, c6, c7, c8, c9, c10, c11, c12⟩ := HB.out
              go_wp2_with fail
              refine ((D3 _).out).mono ?_
              rintro e x37 ⟨rfl, hb⟩
              have HB := hide (HB.out.keep hb)
              have HR := hide (HR.out.trans (hb.mono HR.out.size))
              clear hb c0 c1 c2 c3 c4 c5 c6 c7 c8 c9 c10 c11 c12
              obtain ⟨_, c0, c1, c2, c3, c4, c5, c6, c7, c8, c9, c10, c11, c12⟩ := HB.out
              go_wp2_with fail
              go_ret
              exact ⟨ret_i (by simp [tEb, hk.out, HQ.out]), HR.out⟩
            · obtain ⟨_, c0, c1, c2, c3, c4, c5, c6, c7, c8, c9, c10, c11, c12⟩ := HB.out
              go_wp2_with fail
              refine ((D3 _).out).mono ?_
              rintro e x38 ⟨rfl, hb⟩
              have HB := hide (HB.out.keep hb)
              have HR := hide (HR.out.trans (hb.mono HR.out.size))
              clear hb c0 c1 c2 c3 c4 c5 c6 c7 c8 c9 c10 c11 c12
              have hk1 := hk.out
              obtain ⟨_, c0, c1, c2, c3, c4, c5, c6, c7, c8, c9, c10, c11, c12⟩ := HB.out
              go_wp2_with fail
              all_goals first
                | (go_ret
                   refine ⟨ret_i ?_, HR.out⟩
                   clear c0 c1 c2 c3 c4 c5 c6 c7 c8 c9 c10 c11 c12 hs
                   have HN : nE t = 2 := by
                     go_light
                     unfold nE
                     simp only [bne_iff_ne, bne_eq_false_iff_eq, beq_iff_eq, beq_eq_false_iff_ne, ne_eq] at *
                     repeat' split
                     all_goals first | rfl | (exfalso; simp_all; done) | (exfalso; simp_all; omega) | omega
                   simp [tEb, hk.out, HQ.out, HN])
                | (go_ret
                   refine ⟨ret_i ?_, HR.out⟩
                   clear c0 c1 c2 c3 c4 c5 c6 c7 c8 c9 c10 c11 c12 hs
                   have HN : nE t = 28 := by
                     go_light
                     unfold nE
                     simp only [bne_iff_ne, bne_eq_false_iff_eq, beq_iff_eq, beq_eq_false_iff_ne, ne_eq] at *
                     repeat' split
                     all_goals first | rfl | (exfalso; simp_all; done) | (exfalso; simp_all; omega) | omega
                   simp [tEb, hk.out, HQ.out, HN])
                | (refine (D4 _).out.mono ?_
                   rintro e y1 ⟨rfl, hb⟩
                   have HB := hide (HB.out.keep hb)
                   have HR := hide (HR.out.trans (hb.mono HR.out.size))
                   clear hb c0 c1 c2 c3 c4 c5 c6 c7 c8 c9 c10 c11 c12
                   have HN : nE t = 0 := by
                     go_light
                     unfold nE
                     simp only [bne_iff_ne, bne_eq_false_iff_eq, beq_iff_eq, beq_eq_false_iff_ne, ne_eq] at *
                     repeat' split
                     all_goals first | rfl | (exfalso; simp_all; done) | (exfalso; simp_all; omega) | omega
                   replace HN := hide HN
                   cases B4
                   · obtain ⟨_, c0, c1, c2, c3, c4, c5, c6, c7, c8, c9, c10, c11, c12⟩ := HB.out
                     go_wp2_with fail
                     go_ret
                     exact ⟨ret_i (by simp [tEb, hk.out, HQ.out, HN.out]), HR.out⟩
                   · cases B5
                     · obtain ⟨_, c0, c1, c2, c3, c4, c5, c6, c7, c8, c9, c10, c11, c12⟩ := HB.out
                       go_wp2_with fail
                       refine ((D5 _).out).mono ?_
                       rintro e x39 ⟨rfl, hb⟩
                       have HB := hide (HB.out.keep hb)
                       have HR := hide (HR.out.trans (hb.mono HR.out.size))
                       clear hb c0 c1 c2 c3 c4 c5 c6 c7 c8 c9 c10 c11 c12
                       obtain ⟨_, c0, c1, c2, c3, c4, c5, c6, c7, c8, c9, c10, c11, c12⟩ := HB.out
                       go_wp2_with fail
                       go_ret
                       exact ⟨ret_i (by simp [tEb, hk.out, HQ.out, HN.out]), HR.out⟩
                     · obtain ⟨_, c0, c1, c2, c3, c4, c5, c6, c7, c8, c9, c10, c11, c12⟩ := HB.out
                       go_wp2_with fail
                       refine ((D5 _).out).mono ?_
                       rintro e x40 ⟨rfl, hb⟩
                       have HB := hide (HB.out.keep hb)
                       have HR := hide (HR.out.trans (hb.mono HR.out.size))
                       clear hb c0 c1 c2 c3 c4 c5 c6 c7 c8 c9 c10 c11 c12
                       obtain ⟨_, c0, c1, c2, c3, c4, c5, c6, c7, c8, c9, c10, c11, c12⟩ := HB.out
                       go_wp2_with fail
                       go_ret
                       exact ⟨ret_i (by simp [tEb, hk.out, HQ.out, HN.out]), HR.out⟩)
          · have HQ := hide hs
            obtain ⟨_, c0, c1, c2, c3, c4, c5, c6, c7, c8, c9, c10, c11, c12⟩ := HB.out
            go_wp2_with fail
            go_ret
            exact ⟨ret_i (by simp [tEb, hk.out, HQ.out]), HR.out⟩
    · have kk : (t.k != 1) = true := by simpa using k1
      have kl : (t.k != 2) = true := by simpa using k2
      have hk := hide k2
      have hl := hide k1
      clear k1 k2
      go_enter Tryd.func25, Tryd.ntmps25
      obtain ⟨_, c0, c1, c2, c3, c4, c5, c6, c7, c8, c9, c10, c11, c12⟩ := HB.out
      go_wp2_with fail
      go_ret
      exact ⟨ret_i (by simp [tEb, hk.out, hl.out]), HR.out⟩
end Go.Proofs.YtipgpmjhoaenlaaDoor
