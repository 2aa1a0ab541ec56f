/-
  The check of the names.
-/
import Derived.Test.YtjjaemobgfconaaDoorE1
import Derived.WalkKit
import Derived.Deep.QuietTactic
import Derived.BigQuiet
import Derived.Laws.EntriesVeiled
import Derived.Lib.MinMax
import Derived.Deep.Light
namespace Go.Proofs.YtjjaemobgfconaaDoor
open Go.RowKit
set_option linter.unusedVariables false
set_option linter.unusedSimpArgs false
set_option linter.unnecessarySimpa false

set_option maxHeartbeats 8000000 in
set_option maxRecDepth 20000 in
theorem names_any (t : Ag) (w : World) (S : Shp w) (h : t.Ok) : Calls Tryd.prog 30 #[.agg #[.string t.rf, .string t.se, .string t.bu, .string t.sn, .int .i64 t.q, .int .i64 t.c, .int .i64 t.n, .int .i64 t.d, .int .i64 t.op, .int .i64 t.cl]] w fun e w' => e = .returned (.int .i64 (nmE t)) ∧ Below w.heap.size w w' := by
  have S := hide S
  have H1 : okI 2 t.rf = true → ∀ w : World, (Op.stringOp .add t.rf ⟨#[45, 65]⟩).run Tryd.prog w = .ok (.string (t.rf ++ ⟨#[45, 65]⟩)) w := fun h w => run_string_add w _ _ (by have := ref_len h; omega) (by decide)
  have HA : (t.rf ++ ⟨#[45, 65]⟩ : ByteArray).size ≤ 9223372036854775807 ∨ okI 2 t.rf = false := by
    cases hk : okI 2 t.rf
    · exact .inr rfl
    · have := ref_len hk
      left; rw [ByteArray.size_append]
      have : (⟨#[45, 65]⟩ : ByteArray).size = 2 := rfl
      omega
  have D0 := fun w S => hide (ok_any 2 t.rf w S h.rf)
  have D1 : okI 2 t.rf = true → ∀ w, Shp w → Hid (Calls Tryd.prog 38 #[.int .i64 2, .string (t.rf ++ ⟨#[45, 65]⟩)] w fun e w' => e = .returned (.bool (okI 2 (t.rf ++ ⟨#[45, 65]⟩))) ∧ Below w.heap.size w w') := fun hk w S => hide (ok_any 2 _ w S (by rcases HA with h | h; exact h; rw [hk] at h; cases h))
  have D2 := fun w S => hide (ok_any 1 t.se w S h.se)
  have D3 := fun w S => hide (ok_any 1 t.bu w S h.bu)
  have D4 := fun w S => hide (ok_any 0 t.sn w S h.sn)
  clear h HA
  unfold nmE
  generalize (t.rf ++ ⟨#[45, 65]⟩ : ByteArray) = RA at *
  generalize okI 2 t.rf = B0 at *
  generalize okI 2 RA = B1 at *
  generalize okI 1 t.se = B2 at *
  generalize okI 1 t.bu = B3 at *
  generalize okI 0 t.sn = B4 at *
  have HR := hide (one_alloc w (Obj.cells #[.string t.rf, .string t.se, .string t.bu, .string t.sn, .int .i64 t.q, .int .i64 t.c, .int .i64 t.n, .int .i64 t.d, .int .i64 t.op, .int .i64 t.cl] 28))
  have HB := hide (RB.new t w 28)
  go_enter Tryd.func30, Tryd.ntmps30
  obtain ⟨_, c0, c1, c2, c3, c4, c5, c6, c7, c8, c9⟩ := HB.out
  cases B0
  · skip
    go_wp2_with fail
    refine ((D0 _ (S.out.keep HR.out)).out).mono ?_
    rintro e x ⟨rfl, hb⟩
    have HB := hide (HB.out.keep hb)
    have HR := hide (HR.out.trans (hb.mono HR.out.size))
    clear hb c0 c1 c2 c3 c4 c5 c6 c7 c8 c9
    obtain ⟨_, c0, c1, c2, c3, c4, c5, c6, c7, c8, c9⟩ := HB.out
    go_wp2_with fail
    go_ret
    exact ⟨ret_i (by simp [nmEb]), HR.out⟩
  · skip
    have A1 : ∀ w : World, (Op.stringOp .add t.rf ⟨#[45, 65]⟩).run Tryd.prog w = .ok (.string RA) w := H1 (by first | rfl | trivial)
    go_wp2_with fail
    refine ((D0 _ (S.out.keep HR.out)).out).mono ?_
    rintro e x ⟨rfl, hb⟩
    have HB := hide (HB.out.keep hb)
    have HR := hide (HR.out.trans (hb.mono HR.out.size))
    clear hb c0 c1 c2 c3 c4 c5 c6 c7 c8 c9
    obtain ⟨_, c0, c1, c2, c3, c4, c5, c6, c7, c8, c9⟩ := HB.out
    cases B1
    · skip
      go_wp2_with fail
      refine ((D1 (by first | rfl | trivial) _ (S.out.keep HR.out)).out).mono ?_
      rintro e x ⟨rfl, hb⟩
      have HB := hide (HB.out.keep hb)
      have HR := hide (HR.out.trans (hb.mono HR.out.size))
      clear hb c0 c1 c2 c3 c4 c5 c6 c7 c8 c9
      obtain ⟨_, c0, c1, c2, c3, c4, c5, c6, c7, c8, c9⟩ := HB.out
      go_wp2_with fail
      go_ret
      exact ⟨ret_i (by simp [nmEb]), HR.out⟩
    · skip
      go_wp2_with fail
      refine ((D1 (by first | rfl | trivial) _ (S.out.keep HR.out)).out).mono ?_
      rintro e x ⟨rfl, hb⟩
      have HB := hide (HB.out.keep hb)
      have HR := hide (HR.out.trans (hb.mono HR.out.size))
      clear hb c0 c1 c2 c3 c4 c5 c6 c7 c8 c9
      obtain ⟨_, c0, c1, c2, c3, c4, c5, c6, c7, c8, c9⟩ := HB.out
      cases B2
      · skip
        go_wp2_with fail
        refine ((D2 _ (S.out.keep HR.out)).out).mono ?_
        rintro e x ⟨rfl, hb⟩
        have HB := hide (HB.out.keep hb)
        have HR := hide (HR.out.trans (hb.mono HR.out.size))
        clear hb c0 c1 c2 c3 c4 c5 c6 c7 c8 c9
        obtain ⟨_, c0, c1, c2, c3, c4, c5, c6, c7, c8, c9⟩ := HB.out
        go_wp2_with fail
        go_ret
        exact ⟨ret_i (by simp [nmEb]), HR.out⟩
      · skip
        go_wp2_with fail
        refine ((D2 _ (S.out.keep HR.out)).out).mono ?_
        rintro e x ⟨rfl, hb⟩
        have HB := hide (HB.out.keep hb)
        have HR := hide (HR.out.trans (hb.mono HR.out.size))
        clear hb c0 c1 c2 c3 c4 c5 c6 c7 c8 c9
        obtain ⟨_, c0, c1, c2, c3, c4, c5, c6, c7, c8, c9⟩ := HB.out
        cases B3
        · skip
          go_wp2_with fail
          refine ((D3 _ (S.out.keep HR.out)).out).mono ?_
          rintro e x ⟨rfl, hb⟩
          have HB := hide (HB.out.keep hb)
          have HR := hide (HR.out.trans (hb.mono HR.out.size))
          clear hb c0 c1 c2 c3 c4 c5 c6 c7 c8 c9
          obtain ⟨_, c0, c1, c2, c3, c4, c5, c6, c7, c8, c9⟩ := HB.out
          go_wp2_with fail
          go_ret
          exact ⟨ret_i (by simp [nmEb]), HR.out⟩
        · skip
          go_wp2_with fail
          refine ((D3 _ (S.out.keep HR.out)).out).mono ?_
          rintro e x ⟨rfl, hb⟩
          have HB := hide (HB.out.keep hb)
          have HR := hide (HR.out.trans (hb.mono HR.out.size))
          clear hb c0 c1 c2 c3 c4 c5 c6 c7 c8 c9
          obtain ⟨_, c0, c1, c2, c3, c4, c5, c6, c7, c8, c9⟩ := HB.out
          cases hs : (t.se.toList == t.bu.toList)
          · have HQ := hide hs
            cases B4
            · skip
              go_wp2_with fail
              refine ((D4 _ (S.out.keep HR.out)).out).mono ?_
              rintro e x ⟨rfl, hb⟩
              have HB := hide (HB.out.keep hb)
              have HR := hide (HR.out.trans (hb.mono HR.out.size))
              clear hb c0 c1 c2 c3 c4 c5 c6 c7 c8 c9
              obtain ⟨_, c0, c1, c2, c3, c4, c5, c6, c7, c8, c9⟩ := HB.out
              go_wp2_with fail
              go_ret
              exact ⟨ret_i (by simp [nmEb, HQ.out]), HR.out⟩
            · skip
              go_wp2_with fail
              refine ((D4 _ (S.out.keep HR.out)).out).mono ?_
              rintro e x ⟨rfl, hb⟩
              have HB := hide (HB.out.keep hb)
              have HR := hide (HR.out.trans (hb.mono HR.out.size))
              clear hb c0 c1 c2 c3 c4 c5 c6 c7 c8 c9
              obtain ⟨_, c0, c1, c2, c3, c4, c5, c6, c7, c8, c9⟩ := HB.out
              go_wp2_with fail
              go_ret
              exact ⟨ret_i (by simp [nmEb, HQ.out]), HR.out⟩
          · have HQ := hide hs
            go_wp2_with fail
            go_ret
            exact ⟨ret_i (by simp [nmEb, HQ.out]), HR.out⟩

end Go.Proofs.YtjjaemobgfconaaDoor
