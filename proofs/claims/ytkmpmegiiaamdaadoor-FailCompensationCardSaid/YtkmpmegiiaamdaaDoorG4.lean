/-
  The contract of the reference's check of a late trade at this translation.
-/
import Derived.Test.YtkmpmegiiaamdaaDoorG2
import Derived.Deep.Light
namespace Go.Proofs.YtkmpmegiiaamdaaDoor
open Go.RowKit
set_option linter.unusedVariables false
set_option linter.unusedSimpArgs false
set_option linter.unnecessarySimpa false

theorem rok_any (kind : Int) (s : ByteArray) (w : World) (hm : s.size ≤ 9223372036854775807) :
    Calls Tryd.prog 28 #[.int .i64 kind, .string s] w fun e w' => e = .returned (.bool (okI kind s)) ∧ Below w.heap.size w w' := by
  have ck := fun w => hide (rck_any kind s w hm)
  unfold okI
  generalize (ckR kind s).1 = V at *
  generalize (ckR kind s).2 = E at *
  by_cases h : E = 0
  · have hE : (E == 0) = true := by simpa using h
    have e : decide (E = 0) = true := decide_eq_true h
    rw [e]
    clear h e
    go_enter Tryd.func28, Tryd.ntmps28
    go_wp2_with fail
    refine (ck _).out.mono ?_
    rintro e w1 ⟨rfl, hb⟩
    have B := hide hb
    clear hb
    go_wp2_with fail
    go_ret
    exact ⟨rfl, B.out⟩
  · have hE : (E == 0) = false := by simpa using h
    have e : decide (E = 0) = false := decide_eq_false h
    rw [e]
    clear h e
    go_enter Tryd.func28, Tryd.ntmps28
    go_wp2_with fail
    refine (ck _).out.mono ?_
    rintro e w1 ⟨rfl, hb⟩
    have B := hide hb
    clear hb
    go_wp2_with fail
    go_ret
    exact ⟨rfl, B.out⟩

theorem rdy_any (x : Int) (w : World) : Calls Tryd.prog 29 #[.int .i64 x] w fun e w' => e = .returned (.bool (dyB x)) ∧ w = w' := by
  unfold dyB
  by_cases h0 : 0 ≤ x
  · by_cases h1 : x ≤ 73048
    · rw [decide_eq_true h0, decide_eq_true h1]
      go_enter Tryd.func29, Tryd.ntmps29
      go_wp2_with fail
      go_ret
      exact ⟨rfl, rfl⟩
    · rw [decide_eq_true h0, decide_eq_false h1]
      have h1 : 73048 < x := by omega
      go_enter Tryd.func29, Tryd.ntmps29
      go_wp2_with fail
      go_ret
      exact ⟨rfl, rfl⟩
  · rw [decide_eq_false h0, Bool.false_and]
    have h0 : x < 0 := by omega
    go_enter Tryd.func29, Tryd.ntmps29
    go_wp2_with fail
    go_ret
    exact ⟨rfl, rfl⟩
set_option maxHeartbeats 16000000 in
set_option maxRecDepth 20000 in
theorem rcheck_any (t : Cs) (w : World) (h : t.Ok) : Calls Tryd.prog 9 #[.agg #[.string t.rf, .string t.d, .string t.r, .string t.a, .int .i64 t.q, .int .i64 t.v, .int .i64 t.sd, .int .i64 t.ft]] w fun e w' => e = .returned (.int .i64 (cE t)) ∧ Below w.heap.size w w' := by
  have D0 := fun w => hide (rok_any 2 t.rf w h.rf)
  have D1 := fun w => hide (rok_any 1 t.d w h.d)
  have D2 := fun w => hide (rok_any 1 t.r w h.r)
  have D4 := fun w => hide (rok_any 0 t.a w h.a)
  have DY := fun w => hide (rdy_any t.sd w)
  clear h
  unfold cE
  generalize okI 2 t.rf = B0 at *
  generalize okI 1 t.d = B1 at *
  generalize okI 1 t.r = B2 at *
  generalize okI 0 t.a = B4 at *
  generalize dyB t.sd = DB at *
  generalize h5 : (decide (1 ≤ t.q) && amB t.q) = N5
  generalize h6 : amB t.v = N6
  generalize h8 : (decide (t.ft = 0) || decide (t.ft = 1)) = N8
  have H5 := hide h5
  have H6 := hide h6
  have H8 := hide h8
  clear h5 h6 h8
  have HR := hide (one_alloc w (Obj.cells #[.string t.rf, .string t.d, .string t.r, .string t.a, .int .i64 t.q, .int .i64 t.v, .int .i64 t.sd, .int .i64 t.ft] 23))
  have HB := hide (TB.new t w 23)
  go_enter Tryd.func9, Tryd.ntmps9
  cases B0
  · obtain ⟨_, c0, c1, c2, c3, c4, c5, c6, c7⟩ := HB.out
    go_wp2_with fail
    refine ((D0 _).out).mono ?_
    rintro e x1 ⟨rfl, hb⟩
    have HB := hide (HB.out.keep hb)
    have HR := hide (HR.out.trans (hb.mono HR.out.size))
    clear hb c0 c1 c2 c3 c4 c5 c6 c7
    obtain ⟨_, c0, c1, c2, c3, c4, c5, c6, c7⟩ := HB.out
    go_wp2_with fail
    go_ret
    exact ⟨ret_i (by simp [cEb]), HR.out⟩
  · obtain ⟨_, c0, c1, c2, c3, c4, c5, c6, c7⟩ := HB.out
    go_wp2_with fail
    refine ((D0 _).out).mono ?_
    rintro e x2 ⟨rfl, hb⟩
    have HB := hide (HB.out.keep hb)
    have HR := hide (HR.out.trans (hb.mono HR.out.size))
    clear hb c0 c1 c2 c3 c4 c5 c6 c7
    cases B1
    · obtain ⟨_, c0, c1, c2, c3, c4, c5, c6, c7⟩ := HB.out
      go_wp2_with fail
      refine ((D1 _).out).mono ?_
      rintro e x3 ⟨rfl, hb⟩
      have HB := hide (HB.out.keep hb)
      have HR := hide (HR.out.trans (hb.mono HR.out.size))
      clear hb c0 c1 c2 c3 c4 c5 c6 c7
      obtain ⟨_, c0, c1, c2, c3, c4, c5, c6, c7⟩ := HB.out
      go_wp2_with fail
      go_ret
      exact ⟨ret_i (by simp [cEb]), HR.out⟩
    · obtain ⟨_, c0, c1, c2, c3, c4, c5, c6, c7⟩ := HB.out
      go_wp2_with fail
      refine ((D1 _).out).mono ?_
      rintro e x4 ⟨rfl, hb⟩
      have HB := hide (HB.out.keep hb)
      have HR := hide (HR.out.trans (hb.mono HR.out.size))
      clear hb c0 c1 c2 c3 c4 c5 c6 c7
      cases B2
      · obtain ⟨_, c0, c1, c2, c3, c4, c5, c6, c7⟩ := HB.out
        go_wp2_with fail
        refine ((D2 _).out).mono ?_
        rintro e x5 ⟨rfl, hb⟩
        have HB := hide (HB.out.keep hb)
        have HR := hide (HR.out.trans (hb.mono HR.out.size))
        clear hb c0 c1 c2 c3 c4 c5 c6 c7
        obtain ⟨_, c0, c1, c2, c3, c4, c5, c6, c7⟩ := HB.out
        go_wp2_with fail
        go_ret
        exact ⟨ret_i (by simp [cEb]), HR.out⟩
      · obtain ⟨_, c0, c1, c2, c3, c4, c5, c6, c7⟩ := HB.out
        go_wp2_with fail
        refine ((D2 _).out).mono ?_
        rintro e x6 ⟨rfl, hb⟩
        have HB := hide (HB.out.keep hb)
        have HR := hide (HR.out.trans (hb.mono HR.out.size))
        clear hb c0 c1 c2 c3 c4 c5 c6 c7
        cases hs : (t.d.toList == t.r.toList)
        · have HQ := hide hs
          cases B4
          · obtain ⟨_, c0, c1, c2, c3, c4, c5, c6, c7⟩ := HB.out
            go_wp2_with fail
            refine ((D4 _).out).mono ?_
            rintro e x7 ⟨rfl, hb⟩
            have HB := hide (HB.out.keep hb)
            have HR := hide (HR.out.trans (hb.mono HR.out.size))
            clear hb c0 c1 c2 c3 c4 c5 c6 c7
            obtain ⟨_, c0, c1, c2, c3, c4, c5, c6, c7⟩ := HB.out
            go_wp2_with fail
            go_ret
            exact ⟨ret_i (by simp [cEb, HQ.out]), HR.out⟩
          · obtain ⟨_, c0, c1, c2, c3, c4, c5, c6, c7⟩ := HB.out
            go_wp2_with fail
            refine ((D4 _).out).mono ?_
            rintro e x8 ⟨rfl, hb⟩
            have HB := hide (HB.out.keep hb)
            have HR := hide (HR.out.trans (hb.mono HR.out.size))
            clear hb c0 c1 c2 c3 c4 c5 c6 c7
            obtain ⟨_, c0, c1, c2, c3, c4, c5, c6, c7⟩ := HB.out
            go_wp2_with fail
            all_goals first
              | (go_ret
                 refine ⟨ret_i ?_, HR.out⟩
                 clear c0 c1 c2 c3 c4 c5 c6 c7 hs
                 go_light
                 have e5 := H5.out
                 have e6 := H6.out
                 have hn : N5 = false ∨ N6 = false := by
                   rw [← e5, ← e6]
                   unfold amB
                   simp only [Bool.and_eq_false_iff, decide_eq_false_iff_not]
                   omega
                 rcases hn with hn | hn <;> rw [hn]
                 · simp [cEb, HQ.out]
                 · cases N5 <;> simp [cEb, HQ.out])
              | (refine ((DY _).out).mono ?_
                 rintro e y1 ⟨rfl, rfl⟩
                 have HN : N5 = true ∧ N6 = true := by
                   clear c0 c1 c2 c3 c4 c5 c6 c7 hs
                   go_light
                   have e5 := H5.out
                   have e6 := H6.out
                   rw [← e5, ← e6]
                   unfold amB
                   simp only [Bool.and_eq_true, decide_eq_true_eq]
                   omega
                 obtain ⟨n5, n6⟩ := HN
                 rw [n5] at H5
                 rw [n6] at H6
                 subst n5
                 subst n6
                 cases DB
                 · go_wp2_with fail
                   go_ret
                   exact ⟨ret_i (by simp [cEb, HQ.out]), HR.out⟩
                 · by_cases f0 : t.ft = 0
                   · have k0 : (t.ft == 0) = true := by simpa using f0
                     have k2 : (t.ft != 0) = false := by simpa using f0
                     have n8 : N8 = true := by rw [← H8.out]; simp [f0]
                     subst n8
                     clear f0
                     go_wp2_with fail
                     go_ret
                     exact ⟨ret_i (by simp [cEb, HQ.out]), HR.out⟩
                   · have k0 : (t.ft == 0) = false := by simpa using f0
                     have k2 : (t.ft != 0) = true := by simpa using f0
                     by_cases f1 : t.ft = 1
                     · have k1 : (t.ft == 1) = true := by simpa using f1
                       have k3 : (t.ft != 1) = false := by simpa using f1
                       have n8 : N8 = true := by rw [← H8.out]; simp [f0, f1]
                       subst n8
                       clear f0 f1
                       go_wp2_with fail
                       go_ret
                       exact ⟨ret_i (by simp [cEb, HQ.out]), HR.out⟩
                     · have k1 : (t.ft == 1) = false := by simpa using f1
                       have k3 : (t.ft != 1) = true := by simpa using f1
                       have n8 : N8 = false := by rw [← H8.out]; simp [f0, f1]
                       subst n8
                       clear f0 f1
                       go_wp2_with fail
                       go_ret
                       exact ⟨ret_i (by simp [cEb, HQ.out]), HR.out⟩)
        · have HQ := hide hs
          obtain ⟨_, c0, c1, c2, c3, c4, c5, c6, c7⟩ := HB.out
          go_wp2_with fail
          go_ret
          exact ⟨ret_i (by simp [cEb, HQ.out]), HR.out⟩
end Go.Proofs.YtkmpmegiiaamdaaDoor
