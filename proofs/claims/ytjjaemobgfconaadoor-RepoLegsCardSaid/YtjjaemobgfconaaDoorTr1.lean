/-
  A trade by value and in a block; its conversion and its checks.
-/
import Derived.Test.YtjjaemobgfconaaDoorE8
import Derived.WalkKit
import Derived.Deep.QuietTactic
import Derived.BigQuiet
import Derived.Laws.EntriesVeiled
import Derived.Lib.MinMax
import Derived.Deep.Light
namespace Go.Proofs.YtjjaemobgfconaaDoor
open Go.RowKit
set_option linter.unusedVariables false
set_option linter.unusedSimpArgs false
set_option linter.unnecessarySimpa false

/-- A trade. -/
structure Tr where
  k : Int
  d : ByteArray
  r : ByteArray
  a : ByteArray
  q : Int
  m : Int
  td : Int
  sd : Int
  p : Int
  pa : Bool
  ml : Int
  r0 : ByteArray
  r1 : ByteArray
/-- Its numbers fit their kind, its strings are no longer than a string can be. -/
structure Tr.Ok (t : Tr) : Prop where
  k : -9223372036854775808 ≤ t.k ∧ t.k ≤ 9223372036854775807
  q : -9223372036854775808 ≤ t.q ∧ t.q ≤ 9223372036854775807
  m : -9223372036854775808 ≤ t.m ∧ t.m ≤ 9223372036854775807
  td : -9223372036854775808 ≤ t.td ∧ t.td ≤ 9223372036854775807
  sd : -9223372036854775808 ≤ t.sd ∧ t.sd ≤ 9223372036854775807
  p : -9223372036854775808 ≤ t.p ∧ t.p ≤ 9223372036854775807
  ml : -9223372036854775808 ≤ t.ml ∧ t.ml ≤ 9223372036854775807
  d : t.d.size ≤ 9223372036854775807
  r : t.r.size ≤ 9223372036854775807
  a : t.a.size ≤ 9223372036854775807
  r0 : t.r0.size ≤ 9223372036854775807
  r1 : t.r1.size ≤ 9223372036854775807
set_option maxHeartbeats 2000000 in
theorem lto_any (t : Tr) (w : World) : Calls Tryd.prog 26 #[.agg #[.int .i64 t.k, .string t.d, .string t.r, .string t.a, .int .i64 t.q, .int .i64 t.m, .int .i64 t.td, .int .i64 t.sd, .int .i64 t.p, .bool t.pa, .int .i64 t.ml, .string t.r0, .string t.r1]] w fun e w' => e = .returned (.agg #[.int .i64 t.k, .string t.d, .string t.r, .string t.a, .int .i64 t.q, .int .i64 t.m, .int .i64 t.td, .int .i64 t.sd, .int .i64 t.p, .bool t.pa, .int .i64 t.ml, .string t.r0, .string t.r1]) ∧ Below w.heap.size w w' := by
  go_enter Tryd.func26, Tryd.ntmps26
  go_wp2_with fail
  exact bodyPost_ret (v := .agg #[.int .i64 t.k, .string t.d, .string t.r, .string t.a, .int .i64 t.q, .int .i64 t.m, .int .i64 t.td, .int .i64 t.sd, .int .i64 t.p, .bool t.pa, .int .i64 t.ml, .string t.r0, .string t.r1]) (by simp [results, Tryd.results26, go_sem]) rfl ⟨rfl, two_allocs _ _ _⟩
/-- What the check of a trade's numbers answers. -/
def nE (t : Tr) : Int :=
  if t.q < 1 ∨ 1000000000000000 < t.q then 2
  else if (t.k = 1 ∧ (t.m < 1 ∨ 1000000000000000 < t.m)) ∨ (t.k = 2 ∧ t.m ≠ 0) then 2
  else if t.sd < 0 ∨ 73048 < t.sd ∨ t.td < 0 ∨ t.sd < t.td then 28
  else if t.p < 0 ∨ 2 < t.p then 2
  else if (t.pa = true ∧ (t.ml < 1 ∨ t.q < t.ml)) ∨ (¬ t.pa = true ∧ t.ml ≠ 0) then 2
  else 0
set_option maxHeartbeats 4000000 in
theorem num_any (t : Tr) (w : World) (h : t.Ok) : Calls Tryd.prog 39 #[.agg #[.int .i64 t.k, .string t.d, .string t.r, .string t.a, .int .i64 t.q, .int .i64 t.m, .int .i64 t.td, .int .i64 t.sd, .int .i64 t.p, .bool t.pa, .int .i64 t.ml, .string t.r0, .string t.r1]] w fun e w' => e = .returned (.int .i64 (nE t)) ∧ Below w.heap.size w w' := by
  clear h
  go_enter Tryd.func39, Tryd.ntmps39
  go_wp2_with fail
  all_goals
    go_ret
    refine ⟨ret_i ?_, one_alloc _ _⟩
    go_light
    unfold nE
    simp only [bne_iff_ne, bne_eq_false_iff_eq, beq_iff_eq, beq_eq_false_iff_ne, ne_eq] at *
    repeat' split
    all_goals first | rfl | (exfalso; simp_all; done) | (exfalso; simp_all; omega) | omega
/-- A block holds a trade. -/
structure TB (b : Nat) (t : Tr) (wx : World) : Prop where
  lt : b < wx.heap.size
  c0 : wx.cell? ⟨b, 0, none⟩ = some (.int .i64 t.k)
  c1 : wx.cell? ⟨b, 1, none⟩ = some (.string t.d)
  c2 : wx.cell? ⟨b, 2, none⟩ = some (.string t.r)
  c3 : wx.cell? ⟨b, 3, none⟩ = some (.string t.a)
  c4 : wx.cell? ⟨b, 4, none⟩ = some (.int .i64 t.q)
  c5 : wx.cell? ⟨b, 5, none⟩ = some (.int .i64 t.m)
  c6 : wx.cell? ⟨b, 6, none⟩ = some (.int .i64 t.td)
  c7 : wx.cell? ⟨b, 7, none⟩ = some (.int .i64 t.sd)
  c8 : wx.cell? ⟨b, 8, none⟩ = some (.int .i64 t.p)
  c9 : wx.cell? ⟨b, 9, none⟩ = some (.bool t.pa)
  c10 : wx.cell? ⟨b, 10, none⟩ = some (.int .i64 t.ml)
  c11 : wx.cell? ⟨b, 11, none⟩ = some (.string t.r0)
  c12 : wx.cell? ⟨b, 12, none⟩ = some (.string t.r1)
theorem TB.keep {b : Nat} {t : Tr} {wx wy : World} (h : TB b t wx) (hb : Below wx.heap.size wx wy) : TB b t wy := by
  have l := h.lt
  have s := hb.size
  exact ⟨by omega, (hb.cell (p := ⟨b, 0, none⟩) (by simpa using l)).trans h.c0, (hb.cell (p := ⟨b, 1, none⟩) (by simpa using l)).trans h.c1, (hb.cell (p := ⟨b, 2, none⟩) (by simpa using l)).trans h.c2, (hb.cell (p := ⟨b, 3, none⟩) (by simpa using l)).trans h.c3, (hb.cell (p := ⟨b, 4, none⟩) (by simpa using l)).trans h.c4, (hb.cell (p := ⟨b, 5, none⟩) (by simpa using l)).trans h.c5, (hb.cell (p := ⟨b, 6, none⟩) (by simpa using l)).trans h.c6, (hb.cell (p := ⟨b, 7, none⟩) (by simpa using l)).trans h.c7, (hb.cell (p := ⟨b, 8, none⟩) (by simpa using l)).trans h.c8, (hb.cell (p := ⟨b, 9, none⟩) (by simpa using l)).trans h.c9, (hb.cell (p := ⟨b, 10, none⟩) (by simpa using l)).trans h.c10, (hb.cell (p := ⟨b, 11, none⟩) (by simpa using l)).trans h.c11, (hb.cell (p := ⟨b, 12, none⟩) (by simpa using l)).trans h.c12⟩
theorem TB.new (t : Tr) (w : World) (T : TypeId) : TB w.heap.size t (w.alloc (Obj.cells #[.int .i64 t.k, .string t.d, .string t.r, .string t.a, .int .i64 t.q, .int .i64 t.m, .int .i64 t.td, .int .i64 t.sd, .int .i64 t.p, .bool t.pa, .int .i64 t.ml, .string t.r0, .string t.r1] T)) := by
  refine ⟨by simp, ?_, ?_, ?_, ?_, ?_, ?_, ?_, ?_, ?_, ?_, ?_, ?_, ?_⟩ <;> simp [go_sem]
/-- What the checks of a trade answer, by what is said of its names and numbers. -/
def tEb (k : Int) (b1 b2 same b3 : Bool) (n : Int) (b4 b5 : Bool) : Int :=
  if k ≠ 1 ∧ k ≠ 2 then 11 else if b1 = false ∨ b2 = false then 6 else if same = true then 1 else if b3 = false then 6 else if n ≠ 0 then n else if b4 = false ∨ b5 = false then 6 else 0
def tE (t : Tr) : Int := tEb t.k (okI 1 t.d) (okI 1 t.r) (t.d.toList == t.r.toList) (okI 0 t.a) (nE t) (okI 2 t.r0) (okI 2 t.r1)
set_option maxHeartbeats 8000000 in
theorem tcheck_any (t : Tr) (w : World) (S : Shp w) (h : t.Ok) : Calls Tryd.prog 27 #[.agg #[.int .i64 t.k, .string t.d, .string t.r, .string t.a, .int .i64 t.q, .int .i64 t.m, .int .i64 t.td, .int .i64 t.sd, .int .i64 t.p, .bool t.pa, .int .i64 t.ml, .string t.r0, .string t.r1]] w fun e w' => e = .returned (.int .i64 (tE t)) ∧ Below w.heap.size w w' := by
  have S := hide S
  have D1 := fun w S => hide (ok_any 1 t.d w S h.d)
  have D2 := fun w S => hide (ok_any 1 t.r w S h.r)
  have D3 := fun w S => hide (ok_any 0 t.a w S h.a)
  have D4 := fun w S => hide (ok_any 2 t.r0 w S h.r0)
  have D5 := fun w S => hide (ok_any 2 t.r1 w S h.r1)
  have NM := fun w => hide (num_any t w h)
  clear h
  unfold tE
  generalize okI 1 t.d = B1 at *
  generalize okI 1 t.r = B2 at *
  generalize okI 0 t.a = B3 at *
  generalize okI 2 t.r0 = B4 at *
  generalize okI 2 t.r1 = B5 at *
  generalize nE t = NN at *
  have HR := hide (one_alloc w (Obj.cells #[.int .i64 t.k, .string t.d, .string t.r, .string t.a, .int .i64 t.q, .int .i64 t.m, .int .i64 t.td, .int .i64 t.sd, .int .i64 t.p, .bool t.pa, .int .i64 t.ml, .string t.r0, .string t.r1] 56))
  have HB := hide (TB.new t w 56)
  by_cases k1 : t.k = 1
  · have kk : (t.k != 1) = false := by simpa using k1
    have hk := hide k1
    clear k1
    go_enter Tryd.func27, Tryd.ntmps27
    cases B1
    · obtain ⟨_, c0, c1, c2, c3, c4, c5, c6, c7, c8, c9, c10, c11, c12⟩ := HB.out
      go_wp2_with fail
      refine ((D1 _ (S.out.keep HR.out)).out).mono ?_
      rintro e x1 ⟨rfl, hb⟩
      have HB := hide (HB.out.keep hb)
      have HR := hide (HR.out.trans (hb.mono HR.out.size))
      clear hb c0 c1 c2 c3 c4 c5 c6 c7 c8 c9 c10 c11 c12
      obtain ⟨_, c0, c1, c2, c3, c4, c5, c6, c7, c8, c9, c10, c11, c12⟩ := HB.out
      go_wp2_with fail
      go_ret
      exact ⟨ret_i (by simp [tEb, hk.out]), HR.out⟩
    · obtain ⟨_, c0, c1, c2, c3, c4, c5, c6, c7, c8, c9, c10, c11, c12⟩ := HB.out
      go_wp2_with fail
      refine ((D1 _ (S.out.keep HR.out)).out).mono ?_
      rintro e x2 ⟨rfl, hb⟩
      have HB := hide (HB.out.keep hb)
      have HR := hide (HR.out.trans (hb.mono HR.out.size))
      clear hb c0 c1 c2 c3 c4 c5 c6 c7 c8 c9 c10 c11 c12
      cases B2
      · obtain ⟨_, c0, c1, c2, c3, c4, c5, c6, c7, c8, c9, c10, c11, c12⟩ := HB.out
        go_wp2_with fail
        refine ((D2 _ (S.out.keep HR.out)).out).mono ?_
        rintro e x3 ⟨rfl, hb⟩
        have HB := hide (HB.out.keep hb)
        have HR := hide (HR.out.trans (hb.mono HR.out.size))
        clear hb c0 c1 c2 c3 c4 c5 c6 c7 c8 c9 c10 c11 c12
        obtain ⟨_, c0, c1, c2, c3, c4, c5, c6, c7, c8, c9, c10, c11, c12⟩ := HB.out
        go_wp2_with fail
        go_ret
        exact ⟨ret_i (by simp [tEb, hk.out]), HR.out⟩
      · obtain ⟨_, c0, c1, c2, c3, c4, c5, c6, c7, c8, c9, c10, c11, c12⟩ := HB.out
        go_wp2_with fail
        refine ((D2 _ (S.out.keep HR.out)).out).mono ?_
        rintro e x4 ⟨rfl, hb⟩
        have HB := hide (HB.out.keep hb)
        have HR := hide (HR.out.trans (hb.mono HR.out.size))
        clear hb c0 c1 c2 c3 c4 c5 c6 c7 c8 c9 c10 c11 c12
        cases hs : (t.d.toList == t.r.toList)
        · have HQ := hide hs
          cases B3
          · obtain ⟨_, c0, c1, c2, c3, c4, c5, c6, c7, c8, c9, c10, c11, c12⟩ := HB.out
            go_wp2_with fail
            refine ((D3 _ (S.out.keep HR.out)).out).mono ?_
            rintro e x5 ⟨rfl, hb⟩
            have HB := hide (HB.out.keep hb)
            have HR := hide (HR.out.trans (hb.mono HR.out.size))
            clear hb c0 c1 c2 c3 c4 c5 c6 c7 c8 c9 c10 c11 c12
            obtain ⟨_, c0, c1, c2, c3, c4, c5, c6, c7, c8, c9, c10, c11, c12⟩ := HB.out
            go_wp2_with fail
            go_ret
            exact ⟨ret_i (by simp [tEb, hk.out, HQ.out]), HR.out⟩
          · obtain ⟨_, c0, c1, c2, c3, c4, c5, c6, c7, c8, c9, c10, c11, c12⟩ := HB.out
            go_wp2_with fail
            refine ((D3 _ (S.out.keep HR.out)).out).mono ?_
            rintro e x6 ⟨rfl, hb⟩
            have HB := hide (HB.out.keep hb)
            have HR := hide (HR.out.trans (hb.mono HR.out.size))
            clear hb c0 c1 c2 c3 c4 c5 c6 c7 c8 c9 c10 c11 c12
            by_cases hn : NN = 0
            · have n1 : (NN != 0) = false := by simpa using hn
              have HN := hide hn
              clear hn
              obtain ⟨_, c0, c1, c2, c3, c4, c5, c6, c7, c8, c9, c10, c11, c12⟩ := HB.out
              go_wp2_with fail
              refine ((NM _).out).mono ?_
              rintro e x7 ⟨rfl, hb⟩
              have HB := hide (HB.out.keep hb)
              have HR := hide (HR.out.trans (hb.mono HR.out.size))
              clear hb c0 c1 c2 c3 c4 c5 c6 c7 c8 c9 c10 c11 c12
              cases B4
              · obtain ⟨_, c0, c1, c2, c3, c4, c5, c6, c7, c8, c9, c10, c11, c12⟩ := HB.out
                go_wp2_with fail
                refine ((D4 _ (S.out.keep HR.out)).out).mono ?_
                rintro e x8 ⟨rfl, hb⟩
                have HB := hide (HB.out.keep hb)
                have HR := hide (HR.out.trans (hb.mono HR.out.size))
                clear hb c0 c1 c2 c3 c4 c5 c6 c7 c8 c9 c10 c11 c12
                obtain ⟨_, c0, c1, c2, c3, c4, c5, c6, c7, c8, c9, c10, c11, c12⟩ := HB.out
                go_wp2_with fail
                go_ret
                exact ⟨ret_i (by simp [tEb, hk.out, HQ.out, HN.out]), HR.out⟩
              · obtain ⟨_, c0, c1, c2, c3, c4, c5, c6, c7, c8, c9, c10, c11, c12⟩ := HB.out
                go_wp2_with fail
                refine ((D4 _ (S.out.keep HR.out)).out).mono ?_
                rintro e x9 ⟨rfl, hb⟩
                have HB := hide (HB.out.keep hb)
                have HR := hide (HR.out.trans (hb.mono HR.out.size))
                clear hb c0 c1 c2 c3 c4 c5 c6 c7 c8 c9 c10 c11 c12
                cases B5
                · obtain ⟨_, c0, c1, c2, c3, c4, c5, c6, c7, c8, c9, c10, c11, c12⟩ := HB.out
                  go_wp2_with fail
                  refine ((D5 _ (S.out.keep HR.out)).out).mono ?_
                  rintro e x10 ⟨rfl, hb⟩
                  have HB := hide (HB.out.keep hb)
                  have HR := hide (HR.out.trans (hb.mono HR.out.size))
                  clear hb c0 c1 c2 c3 c4 c5 c6 c7 c8 c9 c10 c11 c12
                  obtain ⟨_, c0, c1, c2, c3, c4, c5, c6, c7, c8, c9, c10, c11, c12⟩ := HB.out
                  go_wp2_with fail
                  go_ret
                  exact ⟨ret_i (by simp [tEb, hk.out, HQ.out, HN.out]), HR.out⟩
                · obtain ⟨_, c0, c1, c2, c3, c4, c5, c6, c7, c8, c9, c10, c11, c12⟩ := HB.out
                  go_wp2_with fail
                  refine ((D5 _ (S.out.keep HR.out)).out).mono ?_
                  rintro e x11 ⟨rfl, hb⟩
                  have HB := hide (HB.out.keep hb)
                  have HR := hide (HR.out.trans (hb.mono HR.out.size))
                  clear hb c0 c1 c2 c3 c4 c5 c6 c7 c8 c9 c10 c11 c12
                  obtain ⟨_, c0, c1, c2, c3, c4, c5, c6, c7, c8, c9, c10, c11, c12⟩ := HB.out
                  go_wp2_with fail
                  go_ret
                  exact ⟨ret_i (by simp [tEb, hk.out, HQ.out, HN.out]), HR.out⟩
            · have n1 : (NN != 0) = true := by simpa using hn
              have HN := hide hn
              clear hn
              obtain ⟨_, c0, c1, c2, c3, c4, c5, c6, c7, c8, c9, c10, c11, c12⟩ := HB.out
              go_wp2_with fail
              refine ((NM _).out).mono ?_
              rintro e x12 ⟨rfl, hb⟩
              have HB := hide (HB.out.keep hb)
              have HR := hide (HR.out.trans (hb.mono HR.out.size))
              clear hb c0 c1 c2 c3 c4 c5 c6 c7 c8 c9 c10 c11 c12
              obtain ⟨_, c0, c1, c2, c3, c4, c5, c6, c7, c8, c9, c10, c11, c12⟩ := HB.out
              go_wp2_with fail
              go_ret
              exact ⟨ret_i (by simp [tEb, hk.out, HQ.out, HN.out]), HR.out⟩
        · have HQ := hide hs
          obtain ⟨_, c0, c1, c2, c3, c4, c5, c6, c7, c8, c9, c10, c11, c12⟩ := HB.out
          go_wp2_with fail
          go_ret
          exact ⟨ret_i (by simp [tEb, hk.out, HQ.out]), HR.out⟩
  · by_cases k2 : t.k = 2
    · have kk : (t.k != 1) = true := by simpa using k1
      have kl : (t.k != 2) = false := by simpa using k2
      have hk := hide k2
      clear k1 k2
      go_enter Tryd.func27, Tryd.ntmps27
      cases B1
      · obtain ⟨_, c0, c1, c2, c3, c4, c5, c6, c7, c8, c9, c10, c11, c12⟩ := HB.out
        go_wp2_with fail
        refine ((D1 _ (S.out.keep HR.out)).out).mono ?_
        rintro e x13 ⟨rfl, hb⟩
        have HB := hide (HB.out.keep hb)
        have HR := hide (HR.out.trans (hb.mono HR.out.size))
        clear hb c0 c1 c2 c3 c4 c5 c6 c7 c8 c9 c10 c11 c12
        obtain ⟨_, c0, c1, c2, c3, c4, c5, c6, c7, c8, c9, c10, c11, c12⟩ := HB.out
        go_wp2_with fail
        go_ret
        exact ⟨ret_i (by simp [tEb, hk.out]), HR.out⟩
      · obtain ⟨_, c0, c1, c2, c3, c4, c5, c6, c7, c8, c9, c10, c11, c12⟩ := HB.out
        go_wp2_with fail
        refine ((D1 _ (S.out.keep HR.out)).out).mono ?_
        rintro e x14 ⟨rfl, hb⟩
        have HB := hide (HB.out.keep hb)
        have HR := hide (HR.out.trans (hb.mono HR.out.size))
        clear hb c0 c1 c2 c3 c4 c5 c6 c7 c8 c9 c10 c11 c12
        cases B2
        · obtain ⟨_, c0, c1, c2, c3, c4, c5, c6, c7, c8, c9, c10, c11, c12⟩ := HB.out
          go_wp2_with fail
          refine ((D2 _ (S.out.keep HR.out)).out).mono ?_
          rintro e x15 ⟨rfl, hb⟩
          have HB := hide (HB.out.keep hb)
          have HR := hide (HR.out.trans (hb.mono HR.out.size))
          clear hb c0 c1 c2 c3 c4 c5 c6 c7 c8 c9 c10 c11 c12
          obtain ⟨_, c0, c1, c2, c3, c4, c5, c6, c7, c8, c9, c10, c11, c12⟩ := HB.out
          go_wp2_with fail
          go_ret
          exact ⟨ret_i (by simp [tEb, hk.out]), HR.out⟩
        · obtain ⟨_, c0, c1, c2, c3, c4, c5, c6, c7, c8, c9, c10, c11, c12⟩ := HB.out
          go_wp2_with fail
          refine ((D2 _ (S.out.keep HR.out)).out).mono ?_
          rintro e x16 ⟨rfl, hb⟩
          have HB := hide (HB.out.keep hb)
          have HR := hide (HR.out.trans (hb.mono HR.out.size))
          clear hb c0 c1 c2 c3 c4 c5 c6 c7 c8 c9 c10 c11 c12
          cases hs : (t.d.toList == t.r.toList)
          · have HQ := hide hs
            cases B3
            · obtain ⟨_, c0, c1, c2, c3, c4, c5, c6, c7, c8, c9, c10, c11, c12⟩ := HB.out
              go_wp2_with fail
              refine ((D3 _ (S.out.keep HR.out)).out).mono ?_
              rintro e x17 ⟨rfl, hb⟩
              have HB := hide (HB.out.keep hb)
              have HR := hide (HR.out.trans (hb.mono HR.out.size))
              clear hb c0 c1 c2 c3 c4 c5 c6 c7 c8 c9 c10 c11 c12
              obtain ⟨_, c0, c1, c2, c3, c4, c5, c6, c7, c8, c9, c10, c11, c12⟩ := HB.out
              go_wp2_with fail
              go_ret
              exact ⟨ret_i (by simp [tEb, hk.out, HQ.out]), HR.out⟩
            · obtain ⟨_, c0, c1, c2, c3, c4, c5, c6, c7, c8, c9, c10, c11, c12⟩ := HB.out
              go_wp2_with fail
              refine ((D3 _ (S.out.keep HR.out)).out).mono ?_
              rintro e x18 ⟨rfl, hb⟩
              have HB := hide (HB.out.keep hb)
              have HR := hide (HR.out.trans (hb.mono HR.out.size))
              clear hb c0 c1 c2 c3 c4 c5 c6 c7 c8 c9 c10 c11 c12
              by_cases hn : NN = 0
              · have n1 : (NN != 0) = false := by simpa using hn
                have HN := hide hn
                clear hn
                obtain ⟨_, c0, c1, c2, c3, c4, c5, c6, c7, c8, c9, c10, c11, c12⟩ := HB.out
                go_wp2_with fail
                refine ((NM _).out).mono ?_
                rintro e x19 ⟨rfl, hb⟩
                have HB := hide (HB.out.keep hb)
                have HR := hide (HR.out.trans (hb.mono HR.out.size))
                clear hb c0 c1 c2 c3 c4 c5 c6 c7 c8 c9 c10 c11 c12
                cases B4
                · obtain ⟨_, c0, c1, c2, c3, c4, c5, c6, c7, c8, c9, c10, c11, c12⟩ := HB.out
                  go_wp2_with fail
                  refine ((D4 _ (S.out.keep HR.out)).out).mono ?_
                  rintro e x20 ⟨rfl, hb⟩
                  have HB := hide (HB.out.keep hb)
                  have HR := hide (HR.out.trans (hb.mono HR.out.size))
                  clear hb c0 c1 c2 c3 c4 c5 c6 c7 c8 c9 c10 c11 c12
                  obtain ⟨_, c0, c1, c2, c3, c4, c5, c6, c7, c8, c9, c10, c11, c12⟩ := HB.out
                  go_wp2_with fail
                  go_ret
                  exact ⟨ret_i (by simp [tEb, hk.out, HQ.out, HN.out]), HR.out⟩
                · obtain ⟨_, c0, c1, c2, c3, c4, c5, c6, c7, c8, c9, c10, c11, c12⟩ := HB.out
                  go_wp2_with fail
                  refine ((D4 _ (S.out.keep HR.out)).out).mono ?_
                  rintro e x21 ⟨rfl, hb⟩
                  have HB := hide (HB.out.keep hb)
                  have HR := hide (HR.out.trans (hb.mono HR.out.size))
                  clear hb c0 c1 c2 c3 c4 c5 c6 c7 c8 c9 c10 c11 c12
                  cases B5
                  · obtain ⟨_, c0, c1, c2, c3, c4, c5, c6, c7, c8, c9, c10, c11, c12⟩ := HB.out
                    go_wp2_with fail
                    refine ((D5 _ (S.out.keep HR.out)).out).mono ?_
                    rintro e x22 ⟨rfl, hb⟩
                    have HB := hide (HB.out.keep hb)
                    have HR := hide (HR.out.trans (hb.mono HR.out.size))
                    clear hb c0 c1 c2 c3 c4 c5 c6 c7 c8 c9 c10 c11 c12
                    obtain ⟨_, c0, c1, c2, c3, c4, c5, c6, c7, c8, c9, c10, c11, c12⟩ := HB.out
                    go_wp2_with fail
                    go_ret
                    exact ⟨ret_i (by simp [tEb, hk.out, HQ.out, HN.out]), HR.out⟩
                  · obtain ⟨_, c0, c1, c2, c3, c4, c5, c6, c7, c8, c9, c10, c11, c12⟩ := HB.out
                    go_wp2_with fail
                    refine ((D5 _ (S.out.keep HR.out)).out).mono ?_
                    rintro e x23 ⟨rfl, hb⟩
                    have HB := hide (HB.out.keep hb)
                    have HR := hide (HR.out.trans (hb.mono HR.out.size))
                    clear hb c0 c1 c2 c3 c4 c5 c6 c7 c8 c9 c10 c11 c12
                    obtain ⟨_, c0, c1, c2, c3, c4, c5, c6, c7, c8, c9, c10, c11, c12⟩ := HB.out
                    go_wp2_with fail
                    go_ret
                    exact ⟨ret_i (by simp [tEb, hk.out, HQ.out, HN.out]), HR.out⟩
              · have n1 : (NN != 0) = true := by simpa using hn
                have HN := hide hn
                clear hn
                obtain ⟨_, c0, c1, c2, c3, c4, c5, c6, c7, c8, c9, c10, c11, c12⟩ := HB.out
                go_wp2_with fail
                refine ((NM _).out).mono ?_
                rintro e x24 ⟨rfl, hb⟩
                have HB := hide (HB.out.keep hb)
                have HR := hide (HR.out.trans (hb.mono HR.out.size))
                clear hb c0 c1 c2 c3 c4 c5 c6 c7 c8 c9 c10 c11 c12
                obtain ⟨_, c0, c1, c2, c3, c4, c5, c6, c7, c8, c9, c10, c11, c12⟩ := HB.out
                go_wp2_with fail
                go_ret
                exact ⟨ret_i (by simp [tEb, hk.out, HQ.out, HN.out]), HR.out⟩
          · have HQ := hide hs
            obtain ⟨_, c0, c1, c2, c3, c4, c5, c6, c7, c8, c9, c10, c11, c12⟩ := HB.out
            go_wp2_with fail
            go_ret
            exact ⟨ret_i (by simp [tEb, hk.out, HQ.out]), HR.out⟩
    · have kk : (t.k != 1) = true := by simpa using k1
      have kl : (t.k != 2) = true := by simpa using k2
      have hk := hide k2
      have hl := hide k1
      clear k1 k2
      go_enter Tryd.func27, Tryd.ntmps27
      obtain ⟨_, c0, c1, c2, c3, c4, c5, c6, c7, c8, c9, c10, c11, c12⟩ := HB.out
      go_wp2_with fail
      go_ret
      exact ⟨ret_i (by simp [tEb, hk.out, hl.out]), HR.out⟩


end Go.Proofs.YtjjaemobgfconaaDoor
