/-
  The check of the reference.
-/
import Derived.Test.YtjjaemobgfconaaDoorEA
import Derived.WalkKit
import Derived.Deep.QuietTactic
import Derived.BigQuiet
import Derived.Laws.EntriesVeiled
import Derived.Lib.MinMax
import Derived.Deep.Light
namespace Go.Proofs.YtjjaemobgfconaaDoor
open Go.RowKit
set_option linter.unusedVariables false
set_option linter.unusedSimpArgs false
set_option linter.unnecessarySimpa false

set_option maxHeartbeats 16000000 in
set_option maxRecDepth 20000 in
theorem racheck_any (t : Ag) (w : World) (h : t.Ok) : Calls Tryd.prog 15 #[.agg #[.string t.rf, .string t.se, .string t.bu, .string t.sn, .int .i64 t.q, .int .i64 t.c, .int .i64 t.n, .int .i64 t.d, .int .i64 t.op, .int .i64 t.cl]] w fun e w' => e = .returned (.int .i64 (agE t)) ∧ Below w.heap.size w w' := by
  have H1 : okI 2 t.rf = true → ∀ w : World, (Op.stringOp .add t.rf ⟨#[45, 65]⟩).run Tryd.prog w = .ok (.string (t.rf ++ ⟨#[45, 65]⟩)) w := fun h w => run_string_add w _ _ (by have := ref_len h; omega) (by decide)
  have HA : (t.rf ++ ⟨#[45, 65]⟩ : ByteArray).size ≤ 9223372036854775807 ∨ okI 2 t.rf = false := by
    cases hk : okI 2 t.rf
    · exact .inr rfl
    · have := ref_len hk
      left; rw [ByteArray.size_append]
      have : (⟨#[45, 65]⟩ : ByteArray).size = 2 := rfl
      omega
  have D0 := fun w => hide (rok_any 2 t.rf w h.rf)
  have D1 : okI 2 t.rf = true → ∀ w, Hid (Calls Tryd.prog 34 #[.int .i64 2, .string (t.rf ++ ⟨#[45, 65]⟩)] w fun e w' => e = .returned (.bool (okI 2 (t.rf ++ ⟨#[45, 65]⟩))) ∧ Below w.heap.size w w') := fun hk w => hide (rok_any 2 _ w (by rcases HA with h | h; exact h; rw [hk] at h; cases h))
  have D2 := fun w => hide (rok_any 1 t.se w h.se)
  have D3 := fun w => hide (rok_any 1 t.bu w h.bu)
  have D4 := fun w => hide (rok_any 0 t.sn w h.sn)
  have CK := fun w => hide (rcheck_any t.n t.d w h.n.1 h.n.2 h.d.1 h.d.2)
  have Y1 := fun w => hide (rdy_any t.op w)
  have Y2 := fun w => hide (rdy_any t.cl w)
  have RI := fun (hF : Fit t) (hd : daE t = 0) w => hide (rint_any t (t.cl - t.op) w hF (by have := day_of hd; omega) (by have := day_of hd; omega))
  have hA := hide (show agE t = if nmE t ≠ 0 then nmE t else if tmE t ≠ 0 then tmE t else if daE t ≠ 0 then daE t else rpE t from rfl)
  have hP := hide (show rpE t = if 1000000000000000 < t.c + iV t (t.cl - t.op) then 12 else 0 from rfl)
  have hN := hide (show nmE t = nmEb (okI 2 t.rf) (okI 2 (t.rf ++ ⟨#[45, 65]⟩)) (okI 1 t.se) (okI 1 t.bu) (t.se.toList == t.bu.toList) (okI 0 t.sn) from rfl)
  clear h HA
  generalize (t.rf ++ ⟨#[45, 65]⟩ : ByteArray) = RA at *
  generalize okI 2 t.rf = B0 at *
  generalize okI 2 RA = B1 at *
  generalize okI 1 t.se = B2 at *
  generalize okI 1 t.bu = B3 at *
  generalize okI 0 t.sn = B4 at *
  have HR := hide (one_alloc w (Obj.cells #[.string t.rf, .string t.se, .string t.bu, .string t.sn, .int .i64 t.q, .int .i64 t.c, .int .i64 t.n, .int .i64 t.d, .int .i64 t.op, .int .i64 t.cl] 25))
  have HB := hide (RB.new t w 25)
  go_enter Tryd.func15, Tryd.ntmps15
  obtain ⟨_, c0, c1, c2, c3, c4, c5, c6, c7, c8, c9⟩ := HB.out
  cases B0
  · skip
    go_wp2_with fail
    refine ((D0 _).out).mono ?_
    rintro e x ⟨rfl, hb⟩
    have HB := hide (HB.out.keep hb)
    have HR := hide (HR.out.trans (hb.mono HR.out.size))
    clear hb c0 c1 c2 c3 c4 c5 c6 c7 c8 c9
    obtain ⟨_, c0, c1, c2, c3, c4, c5, c6, c7, c8, c9⟩ := HB.out
    go_wp2_with fail
    go_ret
    exact ⟨ret_i (by rw [hA.out, hN.out]; simp [nmEb]), HR.out⟩
  · skip
    have A1 : ∀ w : World, (Op.stringOp .add t.rf ⟨#[45, 65]⟩).run Tryd.prog w = .ok (.string RA) w := H1 (by first | rfl | trivial)
    go_wp2_with fail
    refine ((D0 _).out).mono ?_
    rintro e x ⟨rfl, hb⟩
    have HB := hide (HB.out.keep hb)
    have HR := hide (HR.out.trans (hb.mono HR.out.size))
    clear hb c0 c1 c2 c3 c4 c5 c6 c7 c8 c9
    obtain ⟨_, c0, c1, c2, c3, c4, c5, c6, c7, c8, c9⟩ := HB.out
    cases B1
    · skip
      go_wp2_with fail
      refine ((D1 (by first | rfl | trivial) _).out).mono ?_
      rintro e x ⟨rfl, hb⟩
      have HB := hide (HB.out.keep hb)
      have HR := hide (HR.out.trans (hb.mono HR.out.size))
      clear hb c0 c1 c2 c3 c4 c5 c6 c7 c8 c9
      obtain ⟨_, c0, c1, c2, c3, c4, c5, c6, c7, c8, c9⟩ := HB.out
      go_wp2_with fail
      go_ret
      exact ⟨ret_i (by rw [hA.out, hN.out]; simp [nmEb]), HR.out⟩
    · skip
      go_wp2_with fail
      refine ((D1 (by first | rfl | trivial) _).out).mono ?_
      rintro e x ⟨rfl, hb⟩
      have HB := hide (HB.out.keep hb)
      have HR := hide (HR.out.trans (hb.mono HR.out.size))
      clear hb c0 c1 c2 c3 c4 c5 c6 c7 c8 c9
      obtain ⟨_, c0, c1, c2, c3, c4, c5, c6, c7, c8, c9⟩ := HB.out
      cases B2
      · skip
        go_wp2_with fail
        refine ((D2 _).out).mono ?_
        rintro e x ⟨rfl, hb⟩
        have HB := hide (HB.out.keep hb)
        have HR := hide (HR.out.trans (hb.mono HR.out.size))
        clear hb c0 c1 c2 c3 c4 c5 c6 c7 c8 c9
        obtain ⟨_, c0, c1, c2, c3, c4, c5, c6, c7, c8, c9⟩ := HB.out
        go_wp2_with fail
        go_ret
        exact ⟨ret_i (by rw [hA.out, hN.out]; simp [nmEb]), HR.out⟩
      · skip
        go_wp2_with fail
        refine ((D2 _).out).mono ?_
        rintro e x ⟨rfl, hb⟩
        have HB := hide (HB.out.keep hb)
        have HR := hide (HR.out.trans (hb.mono HR.out.size))
        clear hb c0 c1 c2 c3 c4 c5 c6 c7 c8 c9
        obtain ⟨_, c0, c1, c2, c3, c4, c5, c6, c7, c8, c9⟩ := HB.out
        cases B3
        · skip
          go_wp2_with fail
          refine ((D3 _).out).mono ?_
          rintro e x ⟨rfl, hb⟩
          have HB := hide (HB.out.keep hb)
          have HR := hide (HR.out.trans (hb.mono HR.out.size))
          clear hb c0 c1 c2 c3 c4 c5 c6 c7 c8 c9
          obtain ⟨_, c0, c1, c2, c3, c4, c5, c6, c7, c8, c9⟩ := HB.out
          go_wp2_with fail
          go_ret
          exact ⟨ret_i (by rw [hA.out, hN.out]; simp [nmEb]), HR.out⟩
        · skip
          go_wp2_with fail
          refine ((D3 _).out).mono ?_
          rintro e x ⟨rfl, hb⟩
          have HB := hide (HB.out.keep hb)
          have HR := hide (HR.out.trans (hb.mono HR.out.size))
          clear hb c0 c1 c2 c3 c4 c5 c6 c7 c8 c9
          obtain ⟨_, c0, c1, c2, c3, c4, c5, c6, c7, c8, c9⟩ := HB.out
          cases hs : (t.se.toList == t.bu.toList)
          · have HQ := hide hs
            cases B4
            · skip
              go_wp2_with fail
              refine ((D4 _).out).mono ?_
              rintro e x ⟨rfl, hb⟩
              have HB := hide (HB.out.keep hb)
              have HR := hide (HR.out.trans (hb.mono HR.out.size))
              clear hb c0 c1 c2 c3 c4 c5 c6 c7 c8 c9
              obtain ⟨_, c0, c1, c2, c3, c4, c5, c6, c7, c8, c9⟩ := HB.out
              go_wp2_with fail
              go_ret
              exact ⟨ret_i (by rw [hA.out, hN.out]; simp [nmEb, HQ.out]), HR.out⟩
            · skip
              go_wp2_with fail
              refine ((D4 _).out).mono ?_
              rintro e x ⟨rfl, hb⟩
              have HB := hide (HB.out.keep hb)
              have HR := hide (HR.out.trans (hb.mono HR.out.size))
              clear hb c0 c1 c2 c3 c4 c5 c6 c7 c8 c9
              obtain ⟨_, c0, c1, c2, c3, c4, c5, c6, c7, c8, c9⟩ := HB.out
              have z0 := hide (show nmE t = 0 by rw [hN.out]; simp [nmEb, HQ.out])
              by_cases g1 : t.q < 1
              · skip
                have z1 := hide (show tmE t = 2 by unfold tmE; rw [if_pos (by omega)])
                go_wp2_with fail
                go_ret
                exact ⟨ret_i (by rw [hA.out, if_neg (by rw [z0.out]; decide), if_pos (by rw [z1.out]; decide), z1.out]), HR.out⟩
              · by_cases g2 : 1000000000000000 < t.q
                · skip
                  have z1 := hide (show tmE t = 2 by unfold tmE; rw [if_pos (by omega)])
                  go_wp2_with fail
                  go_ret
                  exact ⟨ret_i (by rw [hA.out, if_neg (by rw [z0.out]; decide), if_pos (by rw [z1.out]; decide), z1.out]), HR.out⟩
                · by_cases g3 : t.c < 1
                  · skip
                    have z1 := hide (show tmE t = 2 by unfold tmE; rw [if_pos (by omega)])
                    go_wp2_with fail
                    go_ret
                    exact ⟨ret_i (by rw [hA.out, if_neg (by rw [z0.out]; decide), if_pos (by rw [z1.out]; decide), z1.out]), HR.out⟩
                  · by_cases g4 : 1000000000000000 < t.c
                    · skip
                      have z1 := hide (show tmE t = 2 by unfold tmE; rw [if_pos (by omega)])
                      go_wp2_with fail
                      go_ret
                      exact ⟨ret_i (by rw [hA.out, if_neg (by rw [z0.out]; decide), if_pos (by rw [z1.out]; decide), z1.out]), HR.out⟩
                    · skip
                      have HX := hide (show ¬ (t.q < 1 ∨ 1000000000000000 < t.q ∨ t.c < 1 ∨ 1000000000000000 < t.c) by omega)
                      have hE := hide (show tmE t = if ckE t.n t.d ≠ 0 ∨ t.n < 0 ∨ t.d < t.n then 2 else 0 by unfold tmE; rw [if_neg HX.out])
                      generalize ckE t.n t.d = X at *
                      by_cases h1 : X = 0
                      · subst h1
                        go_wp2_with fail
                        refine ((CK _).out).mono ?_
                        rintro e x ⟨rfl, hb⟩
                        have HB := hide (HB.out.keep hb)
                        have HR := hide (HR.out.trans (hb.mono HR.out.size))
                        clear hb c0 c1 c2 c3 c4 c5 c6 c7 c8 c9
                        obtain ⟨_, c0, c1, c2, c3, c4, c5, c6, c7, c8, c9⟩ := HB.out
                        by_cases h2 : t.n < 0
                        · have z1 := hide (show tmE t = 2 by rw [hE.out, if_pos (.inr (.inl h2))])
                          go_wp2_with fail
                          go_ret
                          exact ⟨ret_i (by rw [hA.out, if_neg (by rw [z0.out]; decide), if_pos (by rw [z1.out]; decide), z1.out]), HR.out⟩
                        · by_cases h3 : t.d < t.n
                          · have z1 := hide (show tmE t = 2 by rw [hE.out, if_pos (.inr (.inr h3))])
                            go_wp2_with fail
                            go_ret
                            exact ⟨ret_i (by rw [hA.out, if_neg (by rw [z0.out]; decide), if_pos (by rw [z1.out]; decide), z1.out]), HR.out⟩
                          · have z1 := hide (show tmE t = 0 by rw [hE.out, if_neg (by rintro (h | h | h); exact h rfl; exact h2 h; exact h3 h)])
                            by_cases d1 : dyB t.op = true
                            · rw [d1] at Y1
                              have b1 : 0 ≤ t.op ∧ t.op ≤ 73048 := by simpa [dyB] using d1
                              obtain ⟨b1, b3⟩ := b1
                              go_wp2_with fail
                              refine ((Y1 _).out).mono ?_
                              rintro e x ⟨rfl, rfl⟩
                              by_cases d2 : dyB t.cl = true
                              · rw [d2] at Y2
                                have b2 : 0 ≤ t.cl ∧ t.cl ≤ 73048 := by simpa [dyB] using d2
                                obtain ⟨b2, b4⟩ := b2
                                go_wp2_with fail
                                refine ((Y2 _).out).mono ?_
                                rintro e x ⟨rfl, rfl⟩
                                by_cases d3 : t.cl ≤ t.op
                                · skip
                                  have z2 := hide (show daE t = 28 by unfold daE; rw [if_neg (by rw [d1, d2]; decide), if_pos (.inl (by omega))])
                                  go_wp2_with fail
                                  go_ret
                                  exact ⟨ret_i (by rw [hA.out, if_neg (by rw [z0.out]; decide), if_neg (by rw [z1.out]; decide), if_pos (by rw [z2.out]; decide), z2.out]), HR.out⟩
                                · by_cases d4 : t.op + 400 < t.cl
                                  · skip
                                    have z2 := hide (show daE t = 28 by unfold daE; rw [if_neg (by rw [d1, d2]; decide), if_pos (.inr (by omega))])
                                    go_wp2_with fail
                                    go_ret
                                    exact ⟨ret_i (by rw [hA.out, if_neg (by rw [z0.out]; decide), if_neg (by rw [z1.out]; decide), if_pos (by rw [z2.out]; decide), z2.out]), HR.out⟩
                                  · have z2 := hide (show daE t = 0 by unfold daE; rw [if_neg (by rw [d1, d2]; decide), if_neg (by omega)])
                                    clear d1 d2
                                    have IA := fun w => RI (fit_of z1.out) z2.out w
                                    have V1 := iV_bd (fit_of z1.out) (k := t.cl - t.op) (by have := day_of z2.out; omega) (by have := day_of z2.out; omega)
                                    obtain ⟨v1, v2⟩ := V1
                                    have cc1 := (fit_of z1.out).c1
                                    have cc2 := (fit_of z1.out).c2
                                    generalize iV t (t.cl - t.op) = V at *
                                    by_cases m1 : V ≤ 1000000000000000
                                    · rw [decide_eq_true m1] at IA
                                      by_cases m2 : 1000000000000000 < t.c + V
                                      · go_wp2_with fail
                                        refine ((IA _).out).mono ?_
                                        rintro e x ⟨rfl, hb⟩
                                        have HB := hide (HB.out.keep hb)
                                        have HR := hide (HR.out.trans (hb.mono HR.out.size))
                                        clear hb c0 c1 c2 c3 c4 c5 c6 c7 c8 c9
                                        obtain ⟨_, c0, c1, c2, c3, c4, c5, c6, c7, c8, c9⟩ := HB.out
                                        go_wp2_with fail
                                        go_ret
                                        exact ⟨ret_i (by rw [hA.out, if_neg (by rw [z0.out]; decide), if_neg (by rw [z1.out]; decide), if_neg (by rw [z2.out]; decide), hP.out, if_pos m2]), HR.out⟩
                                      · go_wp2_with fail
                                        refine ((IA _).out).mono ?_
                                        rintro e x ⟨rfl, hb⟩
                                        have HB := hide (HB.out.keep hb)
                                        have HR := hide (HR.out.trans (hb.mono HR.out.size))
                                        clear hb c0 c1 c2 c3 c4 c5 c6 c7 c8 c9
                                        obtain ⟨_, c0, c1, c2, c3, c4, c5, c6, c7, c8, c9⟩ := HB.out
                                        go_wp2_with fail
                                        go_ret
                                        exact ⟨ret_i (by rw [hA.out, if_neg (by rw [z0.out]; decide), if_neg (by rw [z1.out]; decide), if_neg (by rw [z2.out]; decide), hP.out, if_neg (by omega)]), HR.out⟩
                                    · rw [decide_eq_false m1] at IA
                                      have m2 : 1000000000000000 < t.c + V := by omega
                                      have HM := hide m2
                                      clear m2
                                      go_wp2_with fail
                                      refine ((IA _).out).mono ?_
                                      rintro e x ⟨rfl, hb⟩
                                      have HB := hide (HB.out.keep hb)
                                      have HR := hide (HR.out.trans (hb.mono HR.out.size))
                                      clear hb c0 c1 c2 c3 c4 c5 c6 c7 c8 c9
                                      obtain ⟨_, c0, c1, c2, c3, c4, c5, c6, c7, c8, c9⟩ := HB.out
                                      go_wp2_with fail
                                      go_ret
                                      exact ⟨ret_i (by rw [hA.out, if_neg (by rw [z0.out]; decide), if_neg (by rw [z1.out]; decide), if_neg (by rw [z2.out]; decide), hP.out, if_pos HM.out]), HR.out⟩
                              · have z2 := hide (show daE t = 28 by unfold daE; rw [if_pos (.inr (by simpa using d2))])
                                rw [show dyB t.cl = false by simpa using d2] at Y2
                                clear d1 d2
                                go_wp2_with fail
                                refine ((Y2 _).out).mono ?_
                                rintro e x ⟨rfl, rfl⟩
                                go_wp2_with fail
                                go_ret
                                exact ⟨ret_i (by rw [hA.out, if_neg (by rw [z0.out]; decide), if_neg (by rw [z1.out]; decide), if_pos (by rw [z2.out]; decide), z2.out]), HR.out⟩
                            · have z2 := hide (show daE t = 28 by unfold daE; rw [if_pos (.inl (by simpa using d1))])
                              rw [show dyB t.op = false by simpa using d1] at Y1
                              clear d1
                              go_wp2_with fail
                              refine ((Y1 _).out).mono ?_
                              rintro e x ⟨rfl, rfl⟩
                              go_wp2_with fail
                              go_ret
                              exact ⟨ret_i (by rw [hA.out, if_neg (by rw [z0.out]; decide), if_neg (by rw [z1.out]; decide), if_pos (by rw [z2.out]; decide), z2.out]), HR.out⟩
                      · have h1' : (X != 0) = true := by simpa using h1
                        have z1 := hide (show tmE t = 2 by rw [hE.out, if_pos (.inl h1)])
                        clear h1
                        go_wp2_with fail
                        refine ((CK _).out).mono ?_
                        rintro e x ⟨rfl, hb⟩
                        have HB := hide (HB.out.keep hb)
                        have HR := hide (HR.out.trans (hb.mono HR.out.size))
                        clear hb c0 c1 c2 c3 c4 c5 c6 c7 c8 c9
                        obtain ⟨_, c0, c1, c2, c3, c4, c5, c6, c7, c8, c9⟩ := HB.out
                        go_wp2_with fail
                        go_ret
                        exact ⟨ret_i (by rw [hA.out, if_neg (by rw [z0.out]; decide), if_pos (by rw [z1.out]; decide), z1.out]), HR.out⟩
          · have HQ := hide hs
            go_wp2_with fail
            go_ret
            exact ⟨ret_i (by rw [hA.out, hN.out]; simp [nmEb, HQ.out]), HR.out⟩

end Go.Proofs.YtjjaemobgfconaaDoor
