/-
  A trade in a block; the contracts of both checks of a trade at this translation.
-/
import Derived.Test.YtipgpmjhoaenlaaDoorP2
import Derived.Test.YtipgpmjhoaenlaaDoorId15
namespace Go.Proofs.YtipgpmjhoaenlaaDoor
open Go.RowKit
set_option linter.unusedVariables false
set_option linter.unusedSimpArgs false

/-- A block holds a trade. -/
structure TB (b : Nat) (t : Tr) (wx : World) : Prop where
  lt : b < wx.heap.size
  c0 : wx.cell? ⟨b, 0, none⟩ = some (.int .i64 t.k)
  c1 : wx.cell? ⟨b, 1, none⟩ = some (.string t.d)
  c2 : wx.cell? ⟨b, 2, none⟩ = some (.string t.r)
  c3 : wx.cell? ⟨b, 3, none⟩ = some (.string t.a)
  c4 : wx.cell? ⟨b, 4, none⟩ = some (.int .i64 t.q)
  c5 : wx.cell? ⟨b, 5, none⟩ = some (.int .i64 t.m)
  c6 : wx.cell? ⟨b, 6, none⟩ = some (.int .i64 t.td)
  c7 : wx.cell? ⟨b, 7, none⟩ = some (.int .i64 t.sd)
  c8 : wx.cell? ⟨b, 8, none⟩ = some (.int .i64 t.p)
  c9 : wx.cell? ⟨b, 9, none⟩ = some (.bool t.pa)
  c10 : wx.cell? ⟨b, 10, none⟩ = some (.int .i64 t.ml)
  c11 : wx.cell? ⟨b, 11, none⟩ = some (.string t.r0)
  c12 : wx.cell? ⟨b, 12, none⟩ = some (.string t.r1)
theorem TB.keep {b : Nat} {t : Tr} {wx wy : World} (h : TB b t wx) (hb : Below wx.heap.size wx wy) : TB b t wy := by
  have l := h.lt
  have s := hb.size
  exact ⟨by omega, (hb.cell (p := ⟨b, 0, none⟩) (by simpa using l)).trans h.c0, (hb.cell (p := ⟨b, 1, none⟩) (by simpa using l)).trans h.c1, (hb.cell (p := ⟨b, 2, none⟩) (by simpa using l)).trans h.c2, (hb.cell (p := ⟨b, 3, none⟩) (by simpa using l)).trans h.c3, (hb.cell (p := ⟨b, 4, none⟩) (by simpa using l)).trans h.c4, (hb.cell (p := ⟨b, 5, none⟩) (by simpa using l)).trans h.c5, (hb.cell (p := ⟨b, 6, none⟩) (by simpa using l)).trans h.c6, (hb.cell (p := ⟨b, 7, none⟩) (by simpa using l)).trans h.c7, (hb.cell (p := ⟨b, 8, none⟩) (by simpa using l)).trans h.c8, (hb.cell (p := ⟨b, 9, none⟩) (by simpa using l)).trans h.c9, (hb.cell (p := ⟨b, 10, none⟩) (by simpa using l)).trans h.c10, (hb.cell (p := ⟨b, 11, none⟩) (by simpa using l)).trans h.c11, (hb.cell (p := ⟨b, 12, none⟩) (by simpa using l)).trans h.c12⟩
theorem TB.new (t : Tr) (w : World) (T : TypeId) : TB w.heap.size t (w.alloc (Obj.cells #[.int .i64 t.k, .string t.d, .string t.r, .string t.a, .int .i64 t.q, .int .i64 t.m, .int .i64 t.td, .int .i64 t.sd, .int .i64 t.p, .bool t.pa, .int .i64 t.ml, .string t.r0, .string t.r1] T)) := by
  refine ⟨by simp, ?_, ?_, ?_, ?_, ?_, ?_, ?_, ?_, ?_, ?_, ?_, ?_, ?_⟩ <;> simp [go_sem]
theorem Shp.keep' {w w' : World} (h : Shp w) (hb : Below w.heap.size w w') : Hid (Shp w') := hide (h.keep hb)

/-- What the checks of a trade answer, by what is said of its names and numbers. -/
def tEb (k : Int) (b1 b2 same b3 : Bool) (n : Int) (b4 b5 : Bool) : Int :=
  if k ≠ 1 ∧ k ≠ 2 then 11 else if b1 = false ∨ b2 = false then 6 else if same = true then 1 else if b3 = false then 6 else if n ≠ 0 then n else if b4 = false ∨ b5 = false then 6 else 0
def tE (t : Tr) : Int := tEb t.k (okI 1 t.d) (okI 1 t.r) (t.d.toList == t.r.toList) (okI 0 t.a) (nE t) (okI 2 t.r0) (okI 2 t.r1)
theorem ok9 (kind : Int) (s : ByteArray) (w : World) (S : Shp w) (hm : s.size ≤ 9223372036854775807) : Calls Tryd.prog 30 #[.int .i64 kind, .string s] w fun e w' => e = .returned (.bool (okI kind s)) ∧ Below w.heap.size w w' := ok_any kind s w S hm
theorem rok_any (kind : Int) (s : ByteArray) (w : World) (hm : s.size ≤ 9223372036854775807) :
    Calls Tryd.prog 37 #[.int .i64 kind, .string s] w fun e w' => e = .returned (.bool (okI kind s)) ∧ Below w.heap.size w w' := by
  have ck := fun w => hide (rck_any kind s w hm)
  unfold okI
  generalize (ckR kind s).1 = V at *
  generalize (ckR kind s).2 = E at *
  by_cases h : E = 0
  · have hE : (E == 0) = true := by simpa using h
    have e : decide (E = 0) = true := decide_eq_true h
    rw [e]
    clear h e
    go_enter Tryd.func37, Tryd.ntmps37
    go_wp2_with fail
    refine (ck _).out.mono ?_
    rintro e w1 ⟨rfl, hb⟩
    have B := hide hb
    clear hb
    go_wp2_with fail
    go_ret
    exact ⟨rfl, B.out⟩
  · have hE : (E == 0) = false := by simpa using h
    have e : decide (E = 0) = false := decide_eq_false h
    rw [e]
    clear h e
    go_enter Tryd.func37, Tryd.ntmps37
    go_wp2_with fail
    refine (ck _).out.mono ?_
    rintro e w1 ⟨rfl, hb⟩
    have B := hide hb
    clear hb
    go_wp2_with fail
    go_ret
    exact ⟨rfl, B.out⟩
set_option maxHeartbeats 8000000 in
theorem tcheck_any (t : Tr) (w : World) (S : Shp w) (h : t.Ok) : Calls Tryd.prog 18 #[.agg #[.int .i64 t.k, .string t.d, .string t.r, .string t.a, .int .i64 t.q, .int .i64 t.m, .int .i64 t.td, .int .i64 t.sd, .int .i64 t.p, .bool t.pa, .int .i64 t.ml, .string t.r0, .string t.r1]] w fun e w' => e = .returned (.int .i64 (tE t)) ∧ Below w.heap.size w w' := by
  have S := hide S
  have D1 := fun w S => hide (ok9 1 t.d w S h.d)
  have D2 := fun w S => hide (ok9 1 t.r w S h.r)
  have D3 := fun w S => hide (ok9 0 t.a w S h.a)
  have D4 := fun w S => hide (ok9 2 t.r0 w S h.r0)
  have D5 := fun w S => hide (ok9 2 t.r1 w S h.r1)
  have NM := fun w => hide (num_any t w h)
  clear h
  unfold tE
  generalize okI 1 t.d = B1 at *
  generalize okI 1 t.r = B2 at *
  generalize okI 0 t.a = B3 at *
  generalize okI 2 t.r0 = B4 at *
  generalize okI 2 t.r1 = B5 at *
  generalize nE t = NN at *
  have HR := hide (one_alloc w (Obj.cells #[.int .i64 t.k, .string t.d, .string t.r, .string t.a, .int .i64 t.q, .int .i64 t.m, .int .i64 t.td, .int .i64 t.sd, .int .i64 t.p, .bool t.pa, .int .i64 t.ml, .string t.r0, .string t.r1] 25))
  have HB := hide (TB.new t w 25)
  by_cases k1 : t.k = 1
  · have kk : (t.k != 1) = false := by simpa using k1
    have hk := hide k1
    clear k1
    go_enter Tryd.func18, Tryd.ntmps18
    cases B1
    · obtain ⟨_, c0, c1, c2, c3, c4, c5, c6, c7, c8, c9, c10, c11, c12⟩ := HB.out
      go_wp2_with fail
      refine ((D1 _ (S.out.keep HR.out)).out).mono ?_
      rintro e x1 ⟨rfl, hb⟩
      have HB := hide (HB.out.keep hb)
      have HR := hide (HR.out.trans (hb.mono HR.out.size))
      clear hb c0 c1 c2 c3 c4 c5 c6 c7 c8 c9 c10 c11 c12
      obtain ⟨_, c0, c1, c2, c3, c4, c5, c6, c7, c8, c9, c10, c11, c12⟩ := HB.out
      go_wp2_with fail
      go_ret
      exact ⟨ret_i (by simp [tEb, hk.out]), HR.out⟩
    · obtain ⟨_, c0, c1, c2, c3, c4, c5, c6, c7, c8, c9, c10, c11, c12⟩ := HB.out
      go_wp2_with fail
      refine ((D1 _ (S.out.keep HR.out)).out).mono ?_
      rintro e x2 ⟨rfl, hb⟩
      have HB := hide (HB.out.keep hb)
      have HR := hide (HR.out.trans (hb.mono HR.out.size))
      clear hb c0 c1 c2 c3 c4 c5 c6 c7 c8 c9 c10 c11 c12
      cases B2
      · obtain ⟨_, c0, c1, c2, c3, c4, c5, c6, c7, c8, c9, c10, c11, c12⟩ := HB.out
        go_wp2_with fail
        refine ((D2 _ (S.out.keep HR.out)).out).mono ?_
        rintro e x3 ⟨rfl, hb⟩
        have HB := hide (HB.out.keep hb)
        have HR := hide (HR.out.trans (hb.mono HR.out.size))
        clear hb c0 c1 c2 c3 c4 c5 c6 c7 c8 c9 c10 c11 c12
        obtain ⟨_, c0, c1, c2, c3, c4, c5, c6, c7, c8, c9, c10, c11, c12⟩ := HB.out
        go_wp2_with fail
        go_ret
        exact ⟨ret_i (by simp [tEb, hk.out]), HR.out⟩
      · obtain ⟨_, c0, c1, c2, c3, c4, c5, c6, c7, c8, c9, c10, c11, c12⟩ := HB.out
        go_wp2_with fail
        refine ((D2 _ (S.out.keep HR.out)).out).mono ?_
        rintro e x4 ⟨rfl, hb⟩
        have HB := hide (HB.out.keep hb)
        have HR := hide (HR.out.trans (hb.mono HR.out.size))
        clear hb c0 c1 c2 c3 c4 c5 c6 c7 c8 c9 c10 c11 c12
        cases hs : (t.d.toList == t.r.toList)
        · have HQ := hide hs
          cases B3
          · obtain ⟨_, c0, c1, c2, c3, c4, c5, c6, c7, c8, c9, c10, c11, c12⟩ := HB.out
            go_wp2_with fail
            refine ((D3 _ (S.out.keep HR.out)).out).mono ?_
            rintro e x5 ⟨rfl, hb⟩
            have HB := hide (HB.out.keep hb)
            have HR := hide (HR.out.trans (hb.mono HR.out.size))
            clear hb c0 c1 c2 c3 c4 c5 c6 c7 c8 c9 c10 c11 c12
            obtain ⟨_, c0, c1, c2, c3, c4, c5, c6, c7, c8, c9, c10, c11, c12⟩ := HB.out
            go_wp2_with fail
            go_ret
            exact ⟨ret_i (by simp [tEb, hk.out, HQ.out]), HR.out⟩
          · obtain ⟨_, c0, c1, c2, c3, c4, c5, c6, c7, c8, c9, c10, c11, c12⟩ := HB.out
            go_wp2_with fail
            refine ((D3 _ (S.out.keep HR.out)).out).mono ?_
            rintro e x6 ⟨rfl, hb⟩
            have HB := hide (HB.out.keep hb)
            have HR := hide (HR.out.trans (hb.mono HR.out.size))
            clear hb c0 c1 c2 c3 c4 c5 c6 c7 c8 c9 c10 c11 c12
            by_cases hn : NN = 0
            · have n1 : (NN != 0) = false := by simpa using hn
              have HN := hide hn
              clear hn
              obtain ⟨_, c0, c1, c2, c3, c4, c5, c6, c7, c8, c9, c10, c11, c12⟩ := HB.out
              go_wp2_with fail
              refine ((NM _).out).mono ?_
              rintro e x7 ⟨rfl, hb⟩
              have HB := hide (HB.out.keep hb)
              have HR := hide (HR.out.trans (hb.mono HR.out.size))
              clear hb c0 c1 c2 c3 c4 c5 c6 c7 c8 c9 c10 c11 c12
              cases B4
              · obtain ⟨_, c0, c1, c2, c3, c4, c5, c6, c7, c8, c9, c10, c11, c12⟩ := HB.out
                go_wp2_with fail
                refine ((D4 _ (S.out.keep HR.out)).out).mono ?_
                rintro e x8 ⟨rfl, hb⟩
                have HB := hide (HB.out.keep hb)
                have HR := hide (HR.out.trans (hb.mono HR.out.size))
                clear hb c0 c1 c2 c3 c4 c5 c6 c7 c8 c9 c10 c11 c12
                obtain ⟨_, c0, c1, c2, c3, c4, c5, c6, c7, c8, c9, c10, c11, c12⟩ := HB.out
                go_wp2_with fail
                go_ret
                exact ⟨ret_i (by simp [tEb, hk.out, HQ.out, HN.out]), HR.out⟩
              · obtain ⟨_, c0, c1, c2, c3, c4, c5, c6, c7, c8, c9, c10, c11, c12⟩ := HB.out
                go_wp2_with fail
                refine ((D4 _ (S.out.keep HR.out)).out).mono ?_
                rintro e x9 ⟨rfl, hb⟩
                have HB := hide (HB.out.keep hb)
                have HR := hide (HR.out.trans (hb.mono HR.out.size))
                clear hb c0 c1 c2 c3 c4 c5 c6 c7 c8 c9 c10 c11 c12
                cases B5
                · obtain ⟨_, c0, c1, c2, c3, c4, c5, c6, c7, c8, c9, c10, c11, c12⟩ := HB.out
                  go_wp2_with fail
                  refine ((D5 _ (S.out.keep HR.out)).out).mono ?_
                  rintro e x10 ⟨rfl, hb⟩
                  have HB := hide (HB.out.keep hb)
                  have HR := hide (HR.out.trans (hb.mono HR.out.size))
                  clear hb c0 c1 c2 c3 c4 c5 c6 c7 c8 c9 c10 c11 c12
                  obtain ⟨_, c0, c1, c2, c3, c4, c5, c6, c7, c8, c9, c10, c11, c12⟩ := HB.out
                  go_wp2_with fail
                  go_ret
                  exact ⟨ret_i (by simp [tEb, hk.out, HQ.out, HN.out]), HR.out⟩
                · obtain ⟨_, c0, c1, c2, c3, c4, c5, c6, c7, c8, c9, c10, c11, c12⟩ := HB.out
                  go_wp2_with fail
                  refine ((D5 _ (S.out.keep HR.out)).out).mono ?_
                  rintro e x11 ⟨rfl, hb⟩
                  have HB := hide (HB.out.keep hb)
                  have HR := hide (HR.out.trans (hb.mono HR.out.size))
                  clear hb c0 c1 c2 c3 c4 c5 c6 c7 c8 c9 c10 c11 c12
                  obtain ⟨_, c0, c1, c2, c3, c4, c5, c6, c7, c8, c9, c10, c11, c12⟩ := HB.out
                  go_wp2_with fail
                  go_ret
                  exact ⟨ret_i (by simp [tEb, hk.out, HQ.out, HN.out]), HR.out⟩
            · have n1 : (NN != 0) = true := by simpa using hn
              have HN := hide hn
              clear hn
              obtain ⟨_, c0, c1, c2, c3, c4, c5, c6, c7, c8, c9, c10, c11, c12⟩ := HB.out
              go_wp2_with fail
              refine ((NM _).out).mono ?_
              rintro e x12 ⟨rfl, hb⟩
              have HB := hide (HB.out.keep hb)
              have HR := hide (HR.out.trans (hb.mono HR.out.size))
              clear hb c0 c1 c2 c3 c4 c5 c6 c7 c8 c9 c10 c11 c12
              obtain ⟨_, c0, c1, c2, c3, c4, c5, c6, c7, c8, c9, c10, c11, c12⟩ := HB.out
              go_wp2_with fail
              go_ret
              exact ⟨ret_i (by simp [tEb, hk.out, HQ.out, HN.out]), HR.out⟩
        · have HQ := hide hs
          obtain ⟨_, c0, c1, c2, c3, c4, c5, c6, c7, c8, c9, c10, c11, c12⟩ := HB.out
          go_wp2_with fail
          go_ret
          exact ⟨ret_i (by simp [tEb, hk.out, HQ.out]), HR.out⟩
  · by_cases k2 : t.k = 2
    · have kk : (t.k != 1) = true := by simpa using k1
      have kl : (t.k != 2) = false := by simpa using k2
      have hk := hide k2
      clear k1 k2
      go_enter Tryd.func18, Tryd.ntmps18
      cases B1
      · obtain ⟨_, c0, c1, c2, c3, c4, c5, c6, c7, c8, c9, c10, c11, c12⟩ := HB.out
        go_wp2_with fail
        refine ((D1 _ (S.out.keep HR.out)).out).mono ?_
        rintro e x13 ⟨rfl, hb⟩
        have HB := hide (HB.out.keep hb)
        have HR := hide (HR.out.trans (hb.mono HR.out.size))
        clear hb c0 c1 c2 c3 c4 c5 c6 c7 c8 c9 c10 c11 c12
        obtain ⟨_, c0, c1, c2, c3, c4, c5, c6, c7, c8, c9, c10, c11, c12⟩ := HB.out
        go_wp2_with fail
        go_ret
        exact ⟨ret_i (by simp [tEb, hk.out]), HR.out⟩
      · obtain ⟨_, c0, c1, c2, c3, c4, c5, c6, c7, c8, c9, c10, c11, c12⟩ := HB.out
        go_wp2_with fail
        refine ((D1 _ (S.out.keep HR.out)).out).mono ?_
        rintro e x14 ⟨rfl, hb⟩
        have HB := hide (HB.out.keep hb)
        have HR := hide (HR.out.trans (hb.mono HR.out.size))
        clear hb c0 c1 c2 c3 c4 c5 c6 c7 c8 c9 c10 c11 c12
        cases B2
        · obtain ⟨_, c0, c1, c2, c3, c4, c5, c6, c7, c8, c9, c10, c11, c12⟩ := HB.out
          go_wp2_with fail
          refine ((D2 _ (S.out.keep HR.out)).out).mono ?_
          rintro e x15 ⟨rfl, hb⟩
          have HB := hide (HB.out.keep hb)
          have HR := hide (HR.out.trans (hb.mono HR.out.size))
          clear hb c0 c1 c2 c3 c4 c5 c6 c7 c8 c9 c10 c11 c12
          obtain ⟨_, c0, c1, c2, c3, c4, c5, c6, c7, c8, c9, c10, c11, c12⟩ := HB.out
          go_wp2_with fail
          go_ret
          exact ⟨ret_i (by simp [tEb, hk.out]), HR.out⟩
        · obtain ⟨_, c0, c1, c2, c3, c4, c5, c6, c7, c8, c9, c10, c11, c12⟩ := HB.out
          go_wp2_with fail
          refine ((D2 _ (S.out.keep HR.out)).out).mono ?_
          rintro e x16 ⟨rfl, hb⟩
          have HB := hide (HB.out.keep hb)
          have HR := hide (HR.out.trans (hb.mono HR.out.size))
          clear hb c0 c1 c2 c3 c4 c5 c6 c7 c8 c9 c10 c11 c12
          cases hs : (t.d.toList == t.r.toList)
          · have HQ := hide hs
            cases B3
            · obtain ⟨_, c0, c1, c2, c3, c4, c5, c6, c7, c8, c9, c10, c11, c12⟩ := HB.out
              go_wp2_with fail
              refine ((D3 _ (S.out.keep HR.out)).out).mono ?_
              rintro e x17 ⟨rfl, hb⟩
              have HB := hide (HB.out.keep hb)
              have HR := hide (HR.out.trans (hb.mono HR.out.size))
              clear hb c0 c1 c2 c3 c4 c5 c6 c7 c8 c9 c10 c11 c12
              obtain ⟨_, c0, c1, c2, c3, c4, c5, c6, c7, c8, c9, c10, c11, c12⟩ := HB.out
              go_wp2_with fail
              go_ret
              exact ⟨ret_i (by simp [tEb, hk.out, HQ.out]), HR.out⟩
            · obtain ⟨_, c0, c1, c2, c3, c4, c5, c6, c7, c8, c9, c10, c11, c12⟩ := HB.out
              go_wp2_with fail
              refine ((D3 _ (S.out.keep HR.out)).out).mono ?_
              rintro e x18 ⟨rfl, hb⟩
              have HB := hide (HB.out.keep hb)
              have HR := hide (HR.out.trans (hb.mono HR.out.size))
              clear hb c0 c1 c2 c3 c4 c5 c6 c7 c8 c9 c10 c11 c12
              by_cases hn : NN = 0
              · have n1 : (NN != 0) = false := by simpa using hn
                have HN := hide hn
                clear hn
                obtain ⟨_, c0, c1, c2, c3, c4, c5, c6, c7, c8, c9, c10, c11, c12⟩ := HB.out
                go_wp2_with fail
                refine ((NM _).out).mono ?_
                rintro e x19 ⟨rfl, hb⟩
                have HB := hide (HB.out.keep hb)
                have HR := hide (HR.out.trans (hb.mono HR.out.size))
                clear hb c0 c1 c2 c3 c4 c5 c6 c7 c8 c9 c10 c11 c12
                cases B4
                · obtain ⟨_, c0, c1, c2, c3, c4, c5, c6, c7, c8, c9, c10, c11, c12⟩ := HB.out
                  go_wp2_with fail
                  refine ((D4 _ (S.out.keep HR.out)).out).mono ?_
                  rintro e x20 ⟨rfl, hb⟩
                  have HB := hide (HB.out.keep hb)
                  have HR := hide (HR.out.trans (hb.mono HR.out.size))
                  clear hb c0 c1 c2 c3 c4 c5 c6 c7 c8 c9 c10 c11 c12
                  obtain ⟨_, c0, c1, c2, c3, c4, c5, c6, c7, c8, c9, c10, c11, c12⟩ := HB.out
                  go_wp2_with fail
                  go_ret
                  exact ⟨ret_i (by simp [tEb, hk.out, HQ.out, HN.out]), HR.out⟩
                · obtain ⟨_, c0, c1, c2, c3, c4, c5, c6, c7, c8, c9, c10, c11, c12⟩ := HB.out
                  go_wp2_with fail
                  refine ((D4 _ (S.out.keep HR.out)).out).mono ?_
                  rintro e x21 ⟨rfl, hb⟩
                  have HB := hide (HB.out.keep hb)
                  have HR := hide (HR.out.trans (hb.mono HR.out.size))
                  clear hb c0 c1 c2 c3 c4 c5 c6 c7 c8 c9 c10 c11 c12
                  cases B5
                  · obtain ⟨_, c0, c1, c2, c3, c4, c5, c6, c7, c8, c9, c10, c11, c12⟩ := HB.out
                    go_wp2_with fail
                    refine ((D5 _ (S.out.keep HR.out)).out).mono ?_
                    rintro e x22 ⟨rfl, hb⟩
                    have HB := hide (HB.out.keep hb)
                    have HR := hide (HR.out.trans (hb.mono HR.out.size))
                    clear hb c0 c1 c2 c3 c4 c5 c6 c7 c8 c9 c10 c11 c12
                    obtain ⟨_, c0, c1, c2, c3, c4, c5, c6, c7, c8, c9, c10, c11, c12⟩ := HB.out
                    go_wp2_with fail
                    go_ret
                    exact ⟨ret_i (by simp [tEb, hk.out, HQ.out, HN.out]), HR.out⟩
                  · obtain ⟨_, c0, c1, c2, c3, c4, c5, c6, c7, c8, c9, c10, c11, c12⟩ := HB.out
                    go_wp2_with fail
                    refine ((D5 _ (S.out.keep HR.out)).out).mono ?_
                    rintro e x23 ⟨rfl, hb⟩
                    have HB := hide (HB.out.keep hb)
                    have HR := hide (HR.out.trans (hb.mono HR.out.size))
                    clear hb c0 c1 c2 c3 c4 c5 c6 c7 c8 c9 c10 c11 c12
                    obtain ⟨_, c0, c1, c2, c3, c4, c5, c6, c7, c8, c9, c10, c11, c12⟩ := HB.out
                    go_wp2_with fail
                    go_ret
                    exact ⟨ret_i (by simp [tEb, hk.out, HQ.out, HN.out]), HR.out⟩
              · have n1 : (NN != 0) = true := by simpa using hn
                have HN := hide hn
                clear hn
                obtain ⟨_, c0, c1, c2, c3, c4, c5, c6, c7, c8, c9, c10, c11, c12⟩ := HB.out
                go_wp2_with fail
                refine ((NM _).out).mono ?_
                rintro e x24 ⟨rfl, hb⟩
                have HB := hide (HB.out.keep hb)
                have HR := hide (HR.out.trans (hb.mono HR.out.size))
                clear hb c0 c1 c2 c3 c4 c5 c6 c7 c8 c9 c10 c11 c12
                obtain ⟨_, c0, c1, c2, c3, c4, c5, c6, c7, c8, c9, c10, c11, c12⟩ := HB.out
                go_wp2_with fail
                go_ret
                exact ⟨ret_i (by simp [tEb, hk.out, HQ.out, HN.out]), HR.out⟩
          · have HQ := hide hs
            obtain ⟨_, c0, c1, c2, c3, c4, c5, c6, c7, c8, c9, c10, c11, c12⟩ := HB.out
            go_wp2_with fail
            go_ret
            exact ⟨ret_i (by simp [tEb, hk.out, HQ.out]), HR.out⟩
    · have kk : (t.k != 1) = true := by simpa using k1
      have kl : (t.k != 2) = true := by simpa using k2
      have hk := hide k2
      have hl := hide k1
      clear k1 k2
      go_enter Tryd.func18, Tryd.ntmps18
      obtain ⟨_, c0, c1, c2, c3, c4, c5, c6, c7, c8, c9, c10, c11, c12⟩ := HB.out
      go_wp2_with fail
      go_ret
      exact ⟨ret_i (by simp [tEb, hk.out, hl.out]), HR.out⟩
end Go.Proofs.YtipgpmjhoaenlaaDoor
