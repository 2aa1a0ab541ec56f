/-
  The contract of the check of a late trade at this translation.
-/
import Derived.Test.YtkmpmegiiaamdaaDoorG1
namespace Go.Proofs.YtkmpmegiiaamdaaDoor
open Go.RowKit
set_option linter.unusedVariables false
set_option linter.unusedSimpArgs false
set_option linter.unnecessarySimpa false

/-- A block holds the nine rules. -/
structure RP (p b : Nat) (wx : World) : Prop where
  lt : p < wx.heap.size
  c0 : wx.cell? ⟨p, 0, none⟩ = some (.int .i64 6)
  c1 : wx.cell? ⟨p, 1, none⟩ = some (.func (.func 16) #[] #[.pointer (some ⟨b, 0, none⟩)])
  c2 : wx.cell? ⟨p, 2, none⟩ = some (.int .i64 6)
  c3 : wx.cell? ⟨p, 3, none⟩ = some (.func (.func 18) #[] #[.pointer (some ⟨b, 0, none⟩)])
  c4 : wx.cell? ⟨p, 4, none⟩ = some (.int .i64 6)
  c5 : wx.cell? ⟨p, 5, none⟩ = some (.func (.func 19) #[] #[.pointer (some ⟨b, 0, none⟩)])
  c6 : wx.cell? ⟨p, 6, none⟩ = some (.int .i64 1)
  c7 : wx.cell? ⟨p, 7, none⟩ = some (.func (.func 20) #[] #[.pointer (some ⟨b, 0, none⟩)])
  c8 : wx.cell? ⟨p, 8, none⟩ = some (.int .i64 6)
  c9 : wx.cell? ⟨p, 9, none⟩ = some (.func (.func 21) #[] #[.pointer (some ⟨b, 0, none⟩)])
  c10 : wx.cell? ⟨p, 10, none⟩ = some (.int .i64 2)
  c11 : wx.cell? ⟨p, 11, none⟩ = some (.func (.func 22) #[] #[.pointer (some ⟨b, 0, none⟩)])
  c12 : wx.cell? ⟨p, 12, none⟩ = some (.int .i64 2)
  c13 : wx.cell? ⟨p, 13, none⟩ = some (.func (.func 24) #[] #[.pointer (some ⟨b, 0, none⟩)])
  c14 : wx.cell? ⟨p, 14, none⟩ = some (.int .i64 28)
  c15 : wx.cell? ⟨p, 15, none⟩ = some (.func (.func 25) #[] #[.pointer (some ⟨b, 0, none⟩)])
  c16 : wx.cell? ⟨p, 16, none⟩ = some (.int .i64 11)
  c17 : wx.cell? ⟨p, 17, none⟩ = some (.func (.func 27) #[] #[.pointer (some ⟨b, 0, none⟩)])
theorem RP.keep {p b : Nat} {wx wy : World} (h : RP p b wx) (hb : Below wx.heap.size wx wy) : RP p b wy := by
  have l := h.lt
  have s := hb.size
  exact ⟨by omega, (hb.cell (p := ⟨p, 0, none⟩) (by simpa using l)).trans h.c0, (hb.cell (p := ⟨p, 1, none⟩) (by simpa using l)).trans h.c1, (hb.cell (p := ⟨p, 2, none⟩) (by simpa using l)).trans h.c2, (hb.cell (p := ⟨p, 3, none⟩) (by simpa using l)).trans h.c3, (hb.cell (p := ⟨p, 4, none⟩) (by simpa using l)).trans h.c4, (hb.cell (p := ⟨p, 5, none⟩) (by simpa using l)).trans h.c5, (hb.cell (p := ⟨p, 6, none⟩) (by simpa using l)).trans h.c6, (hb.cell (p := ⟨p, 7, none⟩) (by simpa using l)).trans h.c7, (hb.cell (p := ⟨p, 8, none⟩) (by simpa using l)).trans h.c8, (hb.cell (p := ⟨p, 9, none⟩) (by simpa using l)).trans h.c9, (hb.cell (p := ⟨p, 10, none⟩) (by simpa using l)).trans h.c10, (hb.cell (p := ⟨p, 11, none⟩) (by simpa using l)).trans h.c11, (hb.cell (p := ⟨p, 12, none⟩) (by simpa using l)).trans h.c12, (hb.cell (p := ⟨p, 13, none⟩) (by simpa using l)).trans h.c13, (hb.cell (p := ⟨p, 14, none⟩) (by simpa using l)).trans h.c14, (hb.cell (p := ⟨p, 15, none⟩) (by simpa using l)).trans h.c15, (hb.cell (p := ⟨p, 16, none⟩) (by simpa using l)).trans h.c16, (hb.cell (p := ⟨p, 17, none⟩) (by simpa using l)).trans h.c17⟩
theorem RP.new (b : Nat) (w : World) (T : TypeId) : RP w.heap.size b (w.alloc (Obj.cells #[.int .i64 6, .func (.func 16) #[] #[.pointer (some ⟨b, 0, none⟩)], .int .i64 6, .func (.func 18) #[] #[.pointer (some ⟨b, 0, none⟩)], .int .i64 6, .func (.func 19) #[] #[.pointer (some ⟨b, 0, none⟩)], .int .i64 1, .func (.func 20) #[] #[.pointer (some ⟨b, 0, none⟩)], .int .i64 6, .func (.func 21) #[] #[.pointer (some ⟨b, 0, none⟩)], .int .i64 2, .func (.func 22) #[] #[.pointer (some ⟨b, 0, none⟩)], .int .i64 2, .func (.func 24) #[] #[.pointer (some ⟨b, 0, none⟩)], .int .i64 28, .func (.func 25) #[] #[.pointer (some ⟨b, 0, none⟩)], .int .i64 11, .func (.func 27) #[] #[.pointer (some ⟨b, 0, none⟩)]] T)) := by
  refine ⟨by simp, ?_, ?_, ?_, ?_, ?_, ?_, ?_, ?_, ?_, ?_, ?_, ?_, ?_, ?_, ?_, ?_, ?_, ?_⟩ <;> simp [go_sem]
/-- What the check answers, by what is said of the fields. -/
def cEb (b0 b1 b2 b3 b4 b5 b6 b7 b8 : Bool) : Int :=
  if b0 = false then 6 else if b1 = false then 6 else if b2 = false then 6 else if b3 = false then 1 else if b4 = false then 6 else if b5 = false then 2 else if b6 = false then 2 else if b7 = false then 28 else if b8 = false then 11 else 0
def cE (t : Cs) : Int := cEb (okI 2 t.rf) (okI 1 t.d) (okI 1 t.r) (!(t.d.toList == t.r.toList)) (okI 0 t.a) (decide (1 ≤ t.q) && amB t.q) (amB t.v) (dyB t.sd) (decide (t.ft = 0) || decide (t.ft = 1))
set_option maxHeartbeats 8000000 in
set_option maxRecDepth 20000 in
theorem ccheck_any (t : Cs) (w : World) (S : Shp w) (h : t.Ok) : Calls Tryd.prog 8 #[.agg #[.string t.rf, .string t.d, .string t.r, .string t.a, .int .i64 t.q, .int .i64 t.v, .int .i64 t.sd, .int .i64 t.ft]] w fun e w' => e = .returned (.int .i64 (cE t)) ∧ Below w.heap.size w w' := by
  have hmf : ∀ (fn : Fn) (first cap : Array Value) (w : World), (Instr.makeFunc fn first cap).run Tryd.prog w = .ok (.func fn first cap) w := fun _ _ _ _ => rfl
  have S := hide S
  have R0 := fun w b HB S => hide (rule0 t b w HB S h.rf)
  have R1 := fun w b HB S => hide (rule1 t b w HB S h.d)
  have R2 := fun w b HB S => hide (rule2 t b w HB S h.r)
  have R3 := fun w b HB (S : Shp w) => hide (rule3 t b w HB)
  have R4 := fun w b HB S => hide (rule4 t b w HB S h.a)
  have R5 := fun w b HB (S : Shp w) => hide (rule5 t b w HB)
  have R6 := fun w b HB (S : Shp w) => hide (rule6 t b w HB)
  have R7 := fun w b HB (S : Shp w) => hide (rule7 t b w HB)
  have R8 := fun w b HB (S : Shp w) => hide (rule8 t b w HB)
  clear h
  unfold cE
  generalize okI 2 t.rf = B0 at *
  generalize okI 1 t.d = B1 at *
  generalize okI 1 t.r = B2 at *
  generalize (!(t.d.toList == t.r.toList)) = B3 at *
  generalize okI 0 t.a = B4 at *
  generalize (decide (1 ≤ t.q) && amB t.q) = B5 at *
  generalize amB t.v = B6 at *
  generalize dyB t.sd = B7 at *
  generalize (decide (t.ft = 0) || decide (t.ft = 1)) = B8 at *
  have HR := hide (one_alloc w (Obj.cells #[.string t.rf, .string t.d, .string t.r, .string t.a, .int .i64 t.q, .int .i64 t.v, .int .i64 t.sd, .int .i64 t.ft] 25))
  have HB := hide (TB.new t w 25)
  go_enter Tryd.func8, Tryd.ntmps8
  go_wp2_with fail
  have HB := hide (HB.out.keep (one_alloc _ (Obj.cells #[.int .i64 6, .func (.func 16) #[] #[.pointer (some ⟨w.heap.size, 0, none⟩)], .int .i64 6, .func (.func 18) #[] #[.pointer (some ⟨w.heap.size, 0, none⟩)], .int .i64 6, .func (.func 19) #[] #[.pointer (some ⟨w.heap.size, 0, none⟩)], .int .i64 1, .func (.func 20) #[] #[.pointer (some ⟨w.heap.size, 0, none⟩)], .int .i64 6, .func (.func 21) #[] #[.pointer (some ⟨w.heap.size, 0, none⟩)], .int .i64 2, .func (.func 22) #[] #[.pointer (some ⟨w.heap.size, 0, none⟩)], .int .i64 2, .func (.func 24) #[] #[.pointer (some ⟨w.heap.size, 0, none⟩)], .int .i64 28, .func (.func 25) #[] #[.pointer (some ⟨w.heap.size, 0, none⟩)], .int .i64 11, .func (.func 27) #[] #[.pointer (some ⟨w.heap.size, 0, none⟩)]] 52)))
  have HP := hide (RP.new w.heap.size (w.alloc (Obj.cells #[.string t.rf, .string t.d, .string t.r, .string t.a, .int .i64 t.q, .int .i64 t.v, .int .i64 t.sd, .int .i64 t.ft] 25)) 52)
  have s9 : (w.alloc (Obj.cells #[.string t.rf, .string t.d, .string t.r, .string t.a, .int .i64 t.q, .int .i64 t.v, .int .i64 t.sd, .int .i64 t.ft] 25)).heap.size = w.heap.size + 1 := by simp
  rw [s9] at HP
  clear s9
  have HR := hide (two_allocs w (Obj.cells #[.string t.rf, .string t.d, .string t.r, .string t.a, .int .i64 t.q, .int .i64 t.v, .int .i64 t.sd, .int .i64 t.ft] 25) (Obj.cells #[.int .i64 6, .func (.func 16) #[] #[.pointer (some ⟨w.heap.size, 0, none⟩)], .int .i64 6, .func (.func 18) #[] #[.pointer (some ⟨w.heap.size, 0, none⟩)], .int .i64 6, .func (.func 19) #[] #[.pointer (some ⟨w.heap.size, 0, none⟩)], .int .i64 1, .func (.func 20) #[] #[.pointer (some ⟨w.heap.size, 0, none⟩)], .int .i64 6, .func (.func 21) #[] #[.pointer (some ⟨w.heap.size, 0, none⟩)], .int .i64 2, .func (.func 22) #[] #[.pointer (some ⟨w.heap.size, 0, none⟩)], .int .i64 2, .func (.func 24) #[] #[.pointer (some ⟨w.heap.size, 0, none⟩)], .int .i64 28, .func (.func 25) #[] #[.pointer (some ⟨w.heap.size, 0, none⟩)], .int .i64 11, .func (.func 27) #[] #[.pointer (some ⟨w.heap.size, 0, none⟩)]] 52))
  go_loopw [27] (fun s27 wr => ∃ i : Int, s27 = .int .i64 i ∧ 0 ≤ i ∧ i ≤ 9 ∧ Hid ((0 < i → B0 = true) ∧ (1 < i → B1 = true) ∧ (2 < i → B2 = true) ∧ (3 < i → B3 = true) ∧ (4 < i → B4 = true) ∧ (5 < i → B5 = true) ∧ (6 < i → B6 = true) ∧ (7 < i → B7 = true) ∧ (8 < i → B8 = true)) ∧ Hid (TB w.heap.size t wr) ∧ Hid (RP (w.heap.size + 1) w.heap.size wr) ∧ Hid (Below w.heap.size w wr)) (fun s27 _ => (9 - intOf s27).toNat)
  case atStart => exact ⟨0, rfl, by omega, by omega, hide ⟨fun h => absurd h (by decide), fun h => absurd h (by decide), fun h => absurd h (by decide), fun h => absurd h (by decide), fun h => absurd h (by decide), fun h => absurd h (by decide), fun h => absurd h (by decide), fun h => absurd h (by decide), fun h => absurd h (by decide)⟩, HB, HP, HR⟩
  case round =>
    clear HB HP HR
    obtain ⟨i, rfl, i0, i9, PV, HB, HP, HR⟩ := hrel
    have hi : i = 0 ∨ i = 1 ∨ i = 2 ∨ i = 3 ∨ i = 4 ∨ i = 5 ∨ i = 6 ∨ i = 7 ∨ i = 8 ∨ i = 9 := by omega
    clear i0 i9
    rcases hi with rfl | rfl | rfl | rfl | rfl | rfl | rfl | rfl | rfl | rfl
    · cases B0
      · skip
        obtain ⟨_, p0, p1, p2, p3, p4, p5, p6, p7, p8, p9, p10, p11, p12, p13, p14, p15, p16, p17⟩ := HP.out
        go_wp2_with fail
        clear p0 p1 p2 p3 p4 p5 p6 p7 p8 p9 p10 p11 p12 p13 p14 p15 p16 p17
        have hx : (wr.alloc (Obj.cells #[.int .i64 6, .func (.func 16) #[] #[.pointer (some ⟨w.heap.size, 0, none⟩)]] 52)).cell? ⟨wr.heap.size, 0, none⟩ = some (.int .i64 6) := by simp [go_sem]
        have lx : wr.heap.size < (wr.alloc (Obj.cells #[.int .i64 6, .func (.func 16) #[] #[.pointer (some ⟨w.heap.size, 0, none⟩)]] 52)).heap.size := by simp
        have hb := one_alloc wr (Obj.cells #[.int .i64 6, .func (.func 16) #[] #[.pointer (some ⟨w.heap.size, 0, none⟩)]] 52)
        have HB := hide (HB.out.keep hb)
        have HP := hide (HP.out.keep hb)
        have HR := hide (HR.out.trans (hb.mono HR.out.size))
        clear hb
        generalize wr.alloc (Obj.cells #[.int .i64 6, .func (.func 16) #[] #[.pointer (some ⟨w.heap.size, 0, none⟩)]] 52) = X at *
        refine ((R0 _ _ HB.out (S.out.keep HR.out)).out).mono ?_
        rintro e x1 ⟨rfl, hb⟩
        have hx := (hb.cell (p := ⟨wr.heap.size, 0, none⟩) (by simpa using lx)).trans hx
        have HB := hide (HB.out.keep hb)
        have HP := hide (HP.out.keep hb)
        have HR := hide (HR.out.trans (hb.mono HR.out.size))
        clear hb lx
        go_wp2_with fail
        go_ret
        exact ⟨ret_i (by simp [cEb]), HR.out⟩
      · skip
        obtain ⟨_, p0, p1, p2, p3, p4, p5, p6, p7, p8, p9, p10, p11, p12, p13, p14, p15, p16, p17⟩ := HP.out
        go_wp2_with fail
        clear p0 p1 p2 p3 p4 p5 p6 p7 p8 p9 p10 p11 p12 p13 p14 p15 p16 p17
        have hx : (wr.alloc (Obj.cells #[.int .i64 6, .func (.func 16) #[] #[.pointer (some ⟨w.heap.size, 0, none⟩)]] 52)).cell? ⟨wr.heap.size, 0, none⟩ = some (.int .i64 6) := by simp [go_sem]
        have lx : wr.heap.size < (wr.alloc (Obj.cells #[.int .i64 6, .func (.func 16) #[] #[.pointer (some ⟨w.heap.size, 0, none⟩)]] 52)).heap.size := by simp
        have hb := one_alloc wr (Obj.cells #[.int .i64 6, .func (.func 16) #[] #[.pointer (some ⟨w.heap.size, 0, none⟩)]] 52)
        have HB := hide (HB.out.keep hb)
        have HP := hide (HP.out.keep hb)
        have HR := hide (HR.out.trans (hb.mono HR.out.size))
        clear hb
        generalize wr.alloc (Obj.cells #[.int .i64 6, .func (.func 16) #[] #[.pointer (some ⟨w.heap.size, 0, none⟩)]] 52) = X at *
        refine ((R0 _ _ HB.out (S.out.keep HR.out)).out).mono ?_
        rintro e x1 ⟨rfl, hb⟩
        have hx := (hb.cell (p := ⟨wr.heap.size, 0, none⟩) (by simpa using lx)).trans hx
        have HB := hide (HB.out.keep hb)
        have HP := hide (HP.out.keep hb)
        have HR := hide (HR.out.trans (hb.mono HR.out.size))
        clear hb lx
        go_wp2_with fail
        go_roundw
        case rel => exact ⟨1, rfl, by omega, by omega, hide ⟨fun _ => (by first | rfl | trivial), fun h => absurd h (by decide), fun h => absurd h (by decide), fun h => absurd h (by decide), fun h => absurd h (by decide), fun h => absurd h (by decide), fun h => absurd h (by decide), fun h => absurd h (by decide), fun h => absurd h (by decide)⟩, HB, HP, HR⟩
        case measure => simp [intOf]
    · cases B1
      · skip
        obtain ⟨_, p0, p1, p2, p3, p4, p5, p6, p7, p8, p9, p10, p11, p12, p13, p14, p15, p16, p17⟩ := HP.out
        go_wp2_with fail
        clear p0 p1 p2 p3 p4 p5 p6 p7 p8 p9 p10 p11 p12 p13 p14 p15 p16 p17
        have hx : (wr.alloc (Obj.cells #[.int .i64 6, .func (.func 18) #[] #[.pointer (some ⟨w.heap.size, 0, none⟩)]] 52)).cell? ⟨wr.heap.size, 0, none⟩ = some (.int .i64 6) := by simp [go_sem]
        have lx : wr.heap.size < (wr.alloc (Obj.cells #[.int .i64 6, .func (.func 18) #[] #[.pointer (some ⟨w.heap.size, 0, none⟩)]] 52)).heap.size := by simp
        have hb := one_alloc wr (Obj.cells #[.int .i64 6, .func (.func 18) #[] #[.pointer (some ⟨w.heap.size, 0, none⟩)]] 52)
        have HB := hide (HB.out.keep hb)
        have HP := hide (HP.out.keep hb)
        have HR := hide (HR.out.trans (hb.mono HR.out.size))
        clear hb
        generalize wr.alloc (Obj.cells #[.int .i64 6, .func (.func 18) #[] #[.pointer (some ⟨w.heap.size, 0, none⟩)]] 52) = X at *
        refine ((R1 _ _ HB.out (S.out.keep HR.out)).out).mono ?_
        rintro e x1 ⟨rfl, hb⟩
        have hx := (hb.cell (p := ⟨wr.heap.size, 0, none⟩) (by simpa using lx)).trans hx
        have HB := hide (HB.out.keep hb)
        have HP := hide (HP.out.keep hb)
        have HR := hide (HR.out.trans (hb.mono HR.out.size))
        clear hb lx
        go_wp2_with fail
        go_ret
        have h0 := PV.out.1 (by decide)
        exact ⟨ret_i (by simp [cEb, h0]), HR.out⟩
      · skip
        obtain ⟨_, p0, p1, p2, p3, p4, p5, p6, p7, p8, p9, p10, p11, p12, p13, p14, p15, p16, p17⟩ := HP.out
        go_wp2_with fail
        clear p0 p1 p2 p3 p4 p5 p6 p7 p8 p9 p10 p11 p12 p13 p14 p15 p16 p17
        have hx : (wr.alloc (Obj.cells #[.int .i64 6, .func (.func 18) #[] #[.pointer (some ⟨w.heap.size, 0, none⟩)]] 52)).cell? ⟨wr.heap.size, 0, none⟩ = some (.int .i64 6) := by simp [go_sem]
        have lx : wr.heap.size < (wr.alloc (Obj.cells #[.int .i64 6, .func (.func 18) #[] #[.pointer (some ⟨w.heap.size, 0, none⟩)]] 52)).heap.size := by simp
        have hb := one_alloc wr (Obj.cells #[.int .i64 6, .func (.func 18) #[] #[.pointer (some ⟨w.heap.size, 0, none⟩)]] 52)
        have HB := hide (HB.out.keep hb)
        have HP := hide (HP.out.keep hb)
        have HR := hide (HR.out.trans (hb.mono HR.out.size))
        clear hb
        generalize wr.alloc (Obj.cells #[.int .i64 6, .func (.func 18) #[] #[.pointer (some ⟨w.heap.size, 0, none⟩)]] 52) = X at *
        refine ((R1 _ _ HB.out (S.out.keep HR.out)).out).mono ?_
        rintro e x1 ⟨rfl, hb⟩
        have hx := (hb.cell (p := ⟨wr.heap.size, 0, none⟩) (by simpa using lx)).trans hx
        have HB := hide (HB.out.keep hb)
        have HP := hide (HP.out.keep hb)
        have HR := hide (HR.out.trans (hb.mono HR.out.size))
        clear hb lx
        go_wp2_with fail
        go_roundw
        case rel => exact ⟨2, rfl, by omega, by omega, hide ⟨fun _ => PV.out.1 (by decide), fun _ => (by first | rfl | trivial), fun h => absurd h (by decide), fun h => absurd h (by decide), fun h => absurd h (by decide), fun h => absurd h (by decide), fun h => absurd h (by decide), fun h => absurd h (by decide), fun h => absurd h (by decide)⟩, HB, HP, HR⟩
        case measure => simp [intOf]
    · cases B2
      · skip
        obtain ⟨_, p0, p1, p2, p3, p4, p5, p6, p7, p8, p9, p10, p11, p12, p13, p14, p15, p16, p17⟩ := HP.out
        go_wp2_with fail
        clear p0 p1 p2 p3 p4 p5 p6 p7 p8 p9 p10 p11 p12 p13 p14 p15 p16 p17
        have hx : (wr.alloc (Obj.cells #[.int .i64 6, .func (.func 19) #[] #[.pointer (some ⟨w.heap.size, 0, none⟩)]] 52)).cell? ⟨wr.heap.size, 0, none⟩ = some (.int .i64 6) := by simp [go_sem]
        have lx : wr.heap.size < (wr.alloc (Obj.cells #[.int .i64 6, .func (.func 19) #[] #[.pointer (some ⟨w.heap.size, 0, none⟩)]] 52)).heap.size := by simp
        have hb := one_alloc wr (Obj.cells #[.int .i64 6, .func (.func 19) #[] #[.pointer (some ⟨w.heap.size, 0, none⟩)]] 52)
        have HB := hide (HB.out.keep hb)
        have HP := hide (HP.out.keep hb)
        have HR := hide (HR.out.trans (hb.mono HR.out.size))
        clear hb
        generalize wr.alloc (Obj.cells #[.int .i64 6, .func (.func 19) #[] #[.pointer (some ⟨w.heap.size, 0, none⟩)]] 52) = X at *
        refine ((R2 _ _ HB.out (S.out.keep HR.out)).out).mono ?_
        rintro e x1 ⟨rfl, hb⟩
        have hx := (hb.cell (p := ⟨wr.heap.size, 0, none⟩) (by simpa using lx)).trans hx
        have HB := hide (HB.out.keep hb)
        have HP := hide (HP.out.keep hb)
        have HR := hide (HR.out.trans (hb.mono HR.out.size))
        clear hb lx
        go_wp2_with fail
        go_ret
        have h0 := PV.out.1 (by decide)
        have h1 := PV.out.2.1 (by decide)
        exact ⟨ret_i (by simp [cEb, h0, h1]), HR.out⟩
      · skip
        obtain ⟨_, p0, p1, p2, p3, p4, p5, p6, p7, p8, p9, p10, p11, p12, p13, p14, p15, p16, p17⟩ := HP.out
        go_wp2_with fail
        clear p0 p1 p2 p3 p4 p5 p6 p7 p8 p9 p10 p11 p12 p13 p14 p15 p16 p17
        have hx : (wr.alloc (Obj.cells #[.int .i64 6, .func (.func 19) #[] #[.pointer (some ⟨w.heap.size, 0, none⟩)]] 52)).cell? ⟨wr.heap.size, 0, none⟩ = some (.int .i64 6) := by simp [go_sem]
        have lx : wr.heap.size < (wr.alloc (Obj.cells #[.int .i64 6, .func (.func 19) #[] #[.pointer (some ⟨w.heap.size, 0, none⟩)]] 52)).heap.size := by simp
        have hb := one_alloc wr (Obj.cells #[.int .i64 6, .func (.func 19) #[] #[.pointer (some ⟨w.heap.size, 0, none⟩)]] 52)
        have HB := hide (HB.out.keep hb)
        have HP := hide (HP.out.keep hb)
        have HR := hide (HR.out.trans (hb.mono HR.out.size))
        clear hb
        generalize wr.alloc (Obj.cells #[.int .i64 6, .func (.func 19) #[] #[.pointer (some ⟨w.heap.size, 0, none⟩)]] 52) = X at *
        refine ((R2 _ _ HB.out (S.out.keep HR.out)).out).mono ?_
        rintro e x1 ⟨rfl, hb⟩
        have hx := (hb.cell (p := ⟨wr.heap.size, 0, none⟩) (by simpa using lx)).trans hx
        have HB := hide (HB.out.keep hb)
        have HP := hide (HP.out.keep hb)
        have HR := hide (HR.out.trans (hb.mono HR.out.size))
        clear hb lx
        go_wp2_with fail
        go_roundw
        case rel => exact ⟨3, rfl, by omega, by omega, hide ⟨fun _ => PV.out.1 (by decide), fun _ => PV.out.2.1 (by decide), fun _ => (by first | rfl | trivial), fun h => absurd h (by decide), fun h => absurd h (by decide), fun h => absurd h (by decide), fun h => absurd h (by decide), fun h => absurd h (by decide), fun h => absurd h (by decide)⟩, HB, HP, HR⟩
        case measure => simp [intOf]
    · cases B3
      · skip
        obtain ⟨_, p0, p1, p2, p3, p4, p5, p6, p7, p8, p9, p10, p11, p12, p13, p14, p15, p16, p17⟩ := HP.out
        go_wp2_with fail
        clear p0 p1 p2 p3 p4 p5 p6 p7 p8 p9 p10 p11 p12 p13 p14 p15 p16 p17
        have hx : (wr.alloc (Obj.cells #[.int .i64 1, .func (.func 20) #[] #[.pointer (some ⟨w.heap.size, 0, none⟩)]] 52)).cell? ⟨wr.heap.size, 0, none⟩ = some (.int .i64 1) := by simp [go_sem]
        have lx : wr.heap.size < (wr.alloc (Obj.cells #[.int .i64 1, .func (.func 20) #[] #[.pointer (some ⟨w.heap.size, 0, none⟩)]] 52)).heap.size := by simp
        have hb := one_alloc wr (Obj.cells #[.int .i64 1, .func (.func 20) #[] #[.pointer (some ⟨w.heap.size, 0, none⟩)]] 52)
        have HB := hide (HB.out.keep hb)
        have HP := hide (HP.out.keep hb)
        have HR := hide (HR.out.trans (hb.mono HR.out.size))
        clear hb
        generalize wr.alloc (Obj.cells #[.int .i64 1, .func (.func 20) #[] #[.pointer (some ⟨w.heap.size, 0, none⟩)]] 52) = X at *
        refine ((R3 _ _ HB.out (S.out.keep HR.out)).out).mono ?_
        rintro e x1 ⟨rfl, hb⟩
        have hx := (hb.cell (p := ⟨wr.heap.size, 0, none⟩) (by simpa using lx)).trans hx
        have HB := hide (HB.out.keep hb)
        have HP := hide (HP.out.keep hb)
        have HR := hide (HR.out.trans (hb.mono HR.out.size))
        clear hb lx
        go_wp2_with fail
        go_ret
        have h0 := PV.out.1 (by decide)
        have h1 := PV.out.2.1 (by decide)
        have h2 := PV.out.2.2.1 (by decide)
        exact ⟨ret_i (by simp [cEb, h0, h1, h2]), HR.out⟩
      · skip
        obtain ⟨_, p0, p1, p2, p3, p4, p5, p6, p7, p8, p9, p10, p11, p12, p13, p14, p15, p16, p17⟩ := HP.out
        go_wp2_with fail
        clear p0 p1 p2 p3 p4 p5 p6 p7 p8 p9 p10 p11 p12 p13 p14 p15 p16 p17
        have hx : (wr.alloc (Obj.cells #[.int .i64 1, .func (.func 20) #[] #[.pointer (some ⟨w.heap.size, 0, none⟩)]] 52)).cell? ⟨wr.heap.size, 0, none⟩ = some (.int .i64 1) := by simp [go_sem]
        have lx : wr.heap.size < (wr.alloc (Obj.cells #[.int .i64 1, .func (.func 20) #[] #[.pointer (some ⟨w.heap.size, 0, none⟩)]] 52)).heap.size := by simp
        have hb := one_alloc wr (Obj.cells #[.int .i64 1, .func (.func 20) #[] #[.pointer (some ⟨w.heap.size, 0, none⟩)]] 52)
        have HB := hide (HB.out.keep hb)
        have HP := hide (HP.out.keep hb)
        have HR := hide (HR.out.trans (hb.mono HR.out.size))
        clear hb
        generalize wr.alloc (Obj.cells #[.int .i64 1, .func (.func 20) #[] #[.pointer (some ⟨w.heap.size, 0, none⟩)]] 52) = X at *
        refine ((R3 _ _ HB.out (S.out.keep HR.out)).out).mono ?_
        rintro e x1 ⟨rfl, hb⟩
        have hx := (hb.cell (p := ⟨wr.heap.size, 0, none⟩) (by simpa using lx)).trans hx
        have HB := hide (HB.out.keep hb)
        have HP := hide (HP.out.keep hb)
        have HR := hide (HR.out.trans (hb.mono HR.out.size))
        clear hb lx
        go_wp2_with fail
        go_roundw
        case rel => exact ⟨4, rfl, by omega, by omega, hide ⟨fun _ => PV.out.1 (by decide), fun _ => PV.out.2.1 (by decide), fun _ => PV.out.2.2.1 (by decide), fun _ => (by first | rfl | trivial), fun h => absurd h (by decide), fun h => absurd h (by decide), fun h => absurd h (by decide), fun h => absurd h (by decide), fun h => absurd h (by decide)⟩, HB, HP, HR⟩
        case measure => simp [intOf]
    · cases B4
      · skip
        obtain ⟨_, p0, p1, p2, p3, p4, p5, p6, p7, p8, p9, p10, p11, p12, p13, p14, p15, p16, p17⟩ := HP.out
        go_wp2_with fail
        clear p0 p1 p2 p3 p4 p5 p6 p7 p8 p9 p10 p11 p12 p13 p14 p15 p16 p17
        have hx : (wr.alloc (Obj.cells #[.int .i64 6, .func (.func 21) #[] #[.pointer (some ⟨w.heap.size, 0, none⟩)]] 52)).cell? ⟨wr.heap.size, 0, none⟩ = some (.int .i64 6) := by simp [go_sem]
        have lx : wr.heap.size < (wr.alloc (Obj.cells #[.int .i64 6, .func (.func 21) #[] #[.pointer (some ⟨w.heap.size, 0, none⟩)]] 52)).heap.size := by simp
        have hb := one_alloc wr (Obj.cells #[.int .i64 6, .func (.func 21) #[] #[.pointer (some ⟨w.heap.size, 0, none⟩)]] 52)
        have HB := hide (HB.out.keep hb)
        have HP := hide (HP.out.keep hb)
        have HR := hide (HR.out.trans (hb.mono HR.out.size))
        clear hb
        generalize wr.alloc (Obj.cells #[.int .i64 6, .func (.func 21) #[] #[.pointer (some ⟨w.heap.size, 0, none⟩)]] 52) = X at *
        refine ((R4 _ _ HB.out (S.out.keep HR.out)).out).mono ?_
        rintro e x1 ⟨rfl, hb⟩
        have hx := (hb.cell (p := ⟨wr.heap.size, 0, none⟩) (by simpa using lx)).trans hx
        have HB := hide (HB.out.keep hb)
        have HP := hide (HP.out.keep hb)
        have HR := hide (HR.out.trans (hb.mono HR.out.size))
        clear hb lx
        go_wp2_with fail
        go_ret
        have h0 := PV.out.1 (by decide)
        have h1 := PV.out.2.1 (by decide)
        have h2 := PV.out.2.2.1 (by decide)
        have h3 := PV.out.2.2.2.1 (by decide)
        exact ⟨ret_i (by simp [cEb, h0, h1, h2, h3]), HR.out⟩
      · skip
        obtain ⟨_, p0, p1, p2, p3, p4, p5, p6, p7, p8, p9, p10, p11, p12, p13, p14, p15, p16, p17⟩ := HP.out
        go_wp2_with fail
        clear p0 p1 p2 p3 p4 p5 p6 p7 p8 p9 p10 p11 p12 p13 p14 p15 p16 p17
        have hx : (wr.alloc (Obj.cells #[.int .i64 6, .func (.func 21) #[] #[.pointer (some ⟨w.heap.size, 0, none⟩)]] 52)).cell? ⟨wr.heap.size, 0, none⟩ = some (.int .i64 6) := by simp [go_sem]
        have lx : wr.heap.size < (wr.alloc (Obj.cells #[.int .i64 6, .func (.func 21) #[] #[.pointer (some ⟨w.heap.size, 0, none⟩)]] 52)).heap.size := by simp
        have hb := one_alloc wr (Obj.cells #[.int .i64 6, .func (.func 21) #[] #[.pointer (some ⟨w.heap.size, 0, none⟩)]] 52)
        have HB := hide (HB.out.keep hb)
        have HP := hide (HP.out.keep hb)
        have HR := hide (HR.out.trans (hb.mono HR.out.size))
        clear hb
        generalize wr.alloc (Obj.cells #[.int .i64 6, .func (.func 21) #[] #[.pointer (some ⟨w.heap.size, 0, none⟩)]] 52) = X at *
        refine ((R4 _ _ HB.out (S.out.keep HR.out)).out).mono ?_
        rintro e x1 ⟨rfl, hb⟩
        have hx := (hb.cell (p := ⟨wr.heap.size, 0, none⟩) (by simpa using lx)).trans hx
        have HB := hide (HB.out.keep hb)
        have HP := hide (HP.out.keep hb)
        have HR := hide (HR.out.trans (hb.mono HR.out.size))
        clear hb lx
        go_wp2_with fail
        go_roundw
        case rel => exact ⟨5, rfl, by omega, by omega, hide ⟨fun _ => PV.out.1 (by decide), fun _ => PV.out.2.1 (by decide), fun _ => PV.out.2.2.1 (by decide), fun _ => PV.out.2.2.2.1 (by decide), fun _ => (by first | rfl | trivial), fun h => absurd h (by decide), fun h => absurd h (by decide), fun h => absurd h (by decide), fun h => absurd h (by decide)⟩, HB, HP, HR⟩
        case measure => simp [intOf]
    · cases B5
      · skip
        obtain ⟨_, p0, p1, p2, p3, p4, p5, p6, p7, p8, p9, p10, p11, p12, p13, p14, p15, p16, p17⟩ := HP.out
        go_wp2_with fail
        clear p0 p1 p2 p3 p4 p5 p6 p7 p8 p9 p10 p11 p12 p13 p14 p15 p16 p17
        have hx : (wr.alloc (Obj.cells #[.int .i64 2, .func (.func 22) #[] #[.pointer (some ⟨w.heap.size, 0, none⟩)]] 52)).cell? ⟨wr.heap.size, 0, none⟩ = some (.int .i64 2) := by simp [go_sem]
        have lx : wr.heap.size < (wr.alloc (Obj.cells #[.int .i64 2, .func (.func 22) #[] #[.pointer (some ⟨w.heap.size, 0, none⟩)]] 52)).heap.size := by simp
        have hb := one_alloc wr (Obj.cells #[.int .i64 2, .func (.func 22) #[] #[.pointer (some ⟨w.heap.size, 0, none⟩)]] 52)
        have HB := hide (HB.out.keep hb)
        have HP := hide (HP.out.keep hb)
        have HR := hide (HR.out.trans (hb.mono HR.out.size))
        clear hb
        generalize wr.alloc (Obj.cells #[.int .i64 2, .func (.func 22) #[] #[.pointer (some ⟨w.heap.size, 0, none⟩)]] 52) = X at *
        refine ((R5 _ _ HB.out (S.out.keep HR.out)).out).mono ?_
        rintro e x1 ⟨rfl, hb⟩
        have hx := (hb.cell (p := ⟨wr.heap.size, 0, none⟩) (by simpa using lx)).trans hx
        have HB := hide (HB.out.keep hb)
        have HP := hide (HP.out.keep hb)
        have HR := hide (HR.out.trans (hb.mono HR.out.size))
        clear hb lx
        go_wp2_with fail
        go_ret
        have h0 := PV.out.1 (by decide)
        have h1 := PV.out.2.1 (by decide)
        have h2 := PV.out.2.2.1 (by decide)
        have h3 := PV.out.2.2.2.1 (by decide)
        have h4 := PV.out.2.2.2.2.1 (by decide)
        exact ⟨ret_i (by simp [cEb, h0, h1, h2, h3, h4]), HR.out⟩
      · skip
        obtain ⟨_, p0, p1, p2, p3, p4, p5, p6, p7, p8, p9, p10, p11, p12, p13, p14, p15, p16, p17⟩ := HP.out
        go_wp2_with fail
        clear p0 p1 p2 p3 p4 p5 p6 p7 p8 p9 p10 p11 p12 p13 p14 p15 p16 p17
        have hx : (wr.alloc (Obj.cells #[.int .i64 2, .func (.func 22) #[] #[.pointer (some ⟨w.heap.size, 0, none⟩)]] 52)).cell? ⟨wr.heap.size, 0, none⟩ = some (.int .i64 2) := by simp [go_sem]
        have lx : wr.heap.size < (wr.alloc (Obj.cells #[.int .i64 2, .func (.func 22) #[] #[.pointer (some ⟨w.heap.size, 0, none⟩)]] 52)).heap.size := by simp
        have hb := one_alloc wr (Obj.cells #[.int .i64 2, .func (.func 22) #[] #[.pointer (some ⟨w.heap.size, 0, none⟩)]] 52)
        have HB := hide (HB.out.keep hb)
        have HP := hide (HP.out.keep hb)
        have HR := hide (HR.out.trans (hb.mono HR.out.size))
        clear hb
        generalize wr.alloc (Obj.cells #[.int .i64 2, .func (.func 22) #[] #[.pointer (some ⟨w.heap.size, 0, none⟩)]] 52) = X at *
        refine ((R5 _ _ HB.out (S.out.keep HR.out)).out).mono ?_
        rintro e x1 ⟨rfl, hb⟩
        have hx := (hb.cell (p := ⟨wr.heap.size, 0, none⟩) (by simpa using lx)).trans hx
        have HB := hide (HB.out.keep hb)
        have HP := hide (HP.out.keep hb)
        have HR := hide (HR.out.trans (hb.mono HR.out.size))
        clear hb lx
        go_wp2_with fail
        go_roundw
        case rel => exact ⟨6, rfl, by omega, by omega, hide ⟨fun _ => PV.out.1 (by decide), fun _ => PV.out.2.1 (by decide), fun _ => PV.out.2.2.1 (by decide), fun _ => PV.out.2.2.2.1 (by decide), fun _ => PV.out.2.2.2.2.1 (by decide), fun _ => (by first | rfl | trivial), fun h => absurd h (by decide), fun h => absurd h (by decide), fun h => absurd h (by decide)⟩, HB, HP, HR⟩
        case measure => simp [intOf]
    · cases B6
      · skip
        obtain ⟨_, p0, p1, p2, p3, p4, p5, p6, p7, p8, p9, p10, p11, p12, p13, p14, p15, p16, p17⟩ := HP.out
        go_wp2_with fail
        clear p0 p1 p2 p3 p4 p5 p6 p7 p8 p9 p10 p11 p12 p13 p14 p15 p16 p17
        have hx : (wr.alloc (Obj.cells #[.int .i64 2, .func (.func 24) #[] #[.pointer (some ⟨w.heap.size, 0, none⟩)]] 52)).cell? ⟨wr.heap.size, 0, none⟩ = some (.int .i64 2) := by simp [go_sem]
        have lx : wr.heap.size < (wr.alloc (Obj.cells #[.int .i64 2, .func (.func 24) #[] #[.pointer (some ⟨w.heap.size, 0, none⟩)]] 52)).heap.size := by simp
        have hb := one_alloc wr (Obj.cells #[.int .i64 2, .func (.func 24) #[] #[.pointer (some ⟨w.heap.size, 0, none⟩)]] 52)
        have HB := hide (HB.out.keep hb)
        have HP := hide (HP.out.keep hb)
        have HR := hide (HR.out.trans (hb.mono HR.out.size))
        clear hb
        generalize wr.alloc (Obj.cells #[.int .i64 2, .func (.func 24) #[] #[.pointer (some ⟨w.heap.size, 0, none⟩)]] 52) = X at *
        refine ((R6 _ _ HB.out (S.out.keep HR.out)).out).mono ?_
        rintro e x1 ⟨rfl, hb⟩
        have hx := (hb.cell (p := ⟨wr.heap.size, 0, none⟩) (by simpa using lx)).trans hx
        have HB := hide (HB.out.keep hb)
        have HP := hide (HP.out.keep hb)
        have HR := hide (HR.out.trans (hb.mono HR.out.size))
        clear hb lx
        go_wp2_with fail
        go_ret
        have h0 := PV.out.1 (by decide)
        have h1 := PV.out.2.1 (by decide)
        have h2 := PV.out.2.2.1 (by decide)
        have h3 := PV.out.2.2.2.1 (by decide)
        have h4 := PV.out.2.2.2.2.1 (by decide)
        have h5 := PV.out.2.2.2.2.2.1 (by decide)
        exact ⟨ret_i (by simp [cEb, h0, h1, h2, h3, h4, h5]), HR.out⟩
      · skip
        obtain ⟨_, p0, p1, p2, p3, p4, p5, p6, p7, p8, p9, p10, p11, p12, p13, p14, p15, p16, p17⟩ := HP.out
        go_wp2_with fail
        clear p0 p1 p2 p3 p4 p5 p6 p7 p8 p9 p10 p11 p12 p13 p14 p15 p16 p17
        have hx : (wr.alloc (Obj.cells #[.int .i64 2, .func (.func 24) #[] #[.pointer (some ⟨w.heap.size, 0, none⟩)]] 52)).cell? ⟨wr.heap.size, 0, none⟩ = some (.int .i64 2) := by simp [go_sem]
        have lx : wr.heap.size < (wr.alloc (Obj.cells #[.int .i64 2, .func (.func 24) #[] #[.pointer (some ⟨w.heap.size, 0, none⟩)]] 52)).heap.size := by simp
        have hb := one_alloc wr (Obj.cells #[.int .i64 2, .func (.func 24) #[] #[.pointer (some ⟨w.heap.size, 0, none⟩)]] 52)
        have HB := hide (HB.out.keep hb)
        have HP := hide (HP.out.keep hb)
        have HR := hide (HR.out.trans (hb.mono HR.out.size))
        clear hb
        generalize wr.alloc (Obj.cells #[.int .i64 2, .func (.func 24) #[] #[.pointer (some ⟨w.heap.size, 0, none⟩)]] 52) = X at *
        refine ((R6 _ _ HB.out (S.out.keep HR.out)).out).mono ?_
        rintro e x1 ⟨rfl, hb⟩
        have hx := (hb.cell (p := ⟨wr.heap.size, 0, none⟩) (by simpa using lx)).trans hx
        have HB := hide (HB.out.keep hb)
        have HP := hide (HP.out.keep hb)
        have HR := hide (HR.out.trans (hb.mono HR.out.size))
        clear hb lx
        go_wp2_with fail
        go_roundw
        case rel => exact ⟨7, rfl, by omega, by omega, hide ⟨fun _ => PV.out.1 (by decide), fun _ => PV.out.2.1 (by decide), fun _ => PV.out.2.2.1 (by decide), fun _ => PV.out.2.2.2.1 (by decide), fun _ => PV.out.2.2.2.2.1 (by decide), fun _ => PV.out.2.2.2.2.2.1 (by decide), fun _ => (by first | rfl | trivial), fun h => absurd h (by decide), fun h => absurd h (by decide)⟩, HB, HP, HR⟩
        case measure => simp [intOf]
    · cases B7
      · skip
        obtain ⟨_, p0, p1, p2, p3, p4, p5, p6, p7, p8, p9, p10, p11, p12, p13, p14, p15, p16, p17⟩ := HP.out
        go_wp2_with fail
        clear p0 p1 p2 p3 p4 p5 p6 p7 p8 p9 p10 p11 p12 p13 p14 p15 p16 p17
        have hx : (wr.alloc (Obj.cells #[.int .i64 28, .func (.func 25) #[] #[.pointer (some ⟨w.heap.size, 0, none⟩)]] 52)).cell? ⟨wr.heap.size, 0, none⟩ = some (.int .i64 28) := by simp [go_sem]
        have lx : wr.heap.size < (wr.alloc (Obj.cells #[.int .i64 28, .func (.func 25) #[] #[.pointer (some ⟨w.heap.size, 0, none⟩)]] 52)).heap.size := by simp
        have hb := one_alloc wr (Obj.cells #[.int .i64 28, .func (.func 25) #[] #[.pointer (some ⟨w.heap.size, 0, none⟩)]] 52)
        have HB := hide (HB.out.keep hb)
        have HP := hide (HP.out.keep hb)
        have HR := hide (HR.out.trans (hb.mono HR.out.size))
        clear hb
        generalize wr.alloc (Obj.cells #[.int .i64 28, .func (.func 25) #[] #[.pointer (some ⟨w.heap.size, 0, none⟩)]] 52) = X at *
        refine ((R7 _ _ HB.out (S.out.keep HR.out)).out).mono ?_
        rintro e x1 ⟨rfl, hb⟩
        have hx := (hb.cell (p := ⟨wr.heap.size, 0, none⟩) (by simpa using lx)).trans hx
        have HB := hide (HB.out.keep hb)
        have HP := hide (HP.out.keep hb)
        have HR := hide (HR.out.trans (hb.mono HR.out.size))
        clear hb lx
        go_wp2_with fail
        go_ret
        have h0 := PV.out.1 (by decide)
        have h1 := PV.out.2.1 (by decide)
        have h2 := PV.out.2.2.1 (by decide)
        have h3 := PV.out.2.2.2.1 (by decide)
        have h4 := PV.out.2.2.2.2.1 (by decide)
        have h5 := PV.out.2.2.2.2.2.1 (by decide)
        have h6 := PV.out.2.2.2.2.2.2.1 (by decide)
        exact ⟨ret_i (by simp [cEb, h0, h1, h2, h3, h4, h5, h6]), HR.out⟩
      · skip
        obtain ⟨_, p0, p1, p2, p3, p4, p5, p6, p7, p8, p9, p10, p11, p12, p13, p14, p15, p16, p17⟩ := HP.out
        go_wp2_with fail
        clear p0 p1 p2 p3 p4 p5 p6 p7 p8 p9 p10 p11 p12 p13 p14 p15 p16 p17
        have hx : (wr.alloc (Obj.cells #[.int .i64 28, .func (.func 25) #[] #[.pointer (some ⟨w.heap.size, 0, none⟩)]] 52)).cell? ⟨wr.heap.size, 0, none⟩ = some (.int .i64 28) := by simp [go_sem]
        have lx : wr.heap.size < (wr.alloc (Obj.cells #[.int .i64 28, .func (.func 25) #[] #[.pointer (some ⟨w.heap.size, 0, none⟩)]] 52)).heap.size := by simp
        have hb := one_alloc wr (Obj.cells #[.int .i64 28, .func (.func 25) #[] #[.pointer (some ⟨w.heap.size, 0, none⟩)]] 52)
        have HB := hide (HB.out.keep hb)
        have HP := hide (HP.out.keep hb)
        have HR := hide (HR.out.trans (hb.mono HR.out.size))
        clear hb
        generalize wr.alloc (Obj.cells #[.int .i64 28, .func (.func 25) #[] #[.pointer (some ⟨w.heap.size, 0, none⟩)]] 52) = X at *
        refine ((R7 _ _ HB.out (S.out.keep HR.out)).out).mono ?_
        rintro e x1 ⟨rfl, hb⟩
        have hx := (hb.cell (p := ⟨wr.heap.size, 0, none⟩) (by simpa using lx)).trans hx
        have HB := hide (HB.out.keep hb)
        have HP := hide (HP.out.keep hb)
        have HR := hide (HR.out.trans (hb.mono HR.out.size))
        clear hb lx
        go_wp2_with fail
        go_roundw
        case rel => exact ⟨8, rfl, by omega, by omega, hide ⟨fun _ => PV.out.1 (by decide), fun _ => PV.out.2.1 (by decide), fun _ => PV.out.2.2.1 (by decide), fun _ => PV.out.2.2.2.1 (by decide), fun _ => PV.out.2.2.2.2.1 (by decide), fun _ => PV.out.2.2.2.2.2.1 (by decide), fun _ => PV.out.2.2.2.2.2.2.1 (by decide), fun _ => (by first | rfl | trivial), fun h => absurd h (by decide)⟩, HB, HP, HR⟩
        case measure => simp [intOf]
    · cases B8
      · skip
        obtain ⟨_, p0, p1, p2, p3, p4, p5, p6, p7, p8, p9, p10, p11, p12, p13, p14, p15, p16, p17⟩ := HP.out
        go_wp2_with fail
        clear p0 p1 p2 p3 p4 p5 p6 p7 p8 p9 p10 p11 p12 p13 p14 p15 p16 p17
        have hx : (wr.alloc (Obj.cells #[.int .i64 11, .func (.func 27) #[] #[.pointer (some ⟨w.heap.size, 0, none⟩)]] 52)).cell? ⟨wr.heap.size, 0, none⟩ = some (.int .i64 11) := by simp [go_sem]
        have lx : wr.heap.size < (wr.alloc (Obj.cells #[.int .i64 11, .func (.func 27) #[] #[.pointer (some ⟨w.heap.size, 0, none⟩)]] 52)).heap.size := by simp
        have hb := one_alloc wr (Obj.cells #[.int .i64 11, .func (.func 27) #[] #[.pointer (some ⟨w.heap.size, 0, none⟩)]] 52)
        have HB := hide (HB.out.keep hb)
        have HP := hide (HP.out.keep hb)
        have HR := hide (HR.out.trans (hb.mono HR.out.size))
        clear hb
        generalize wr.alloc (Obj.cells #[.int .i64 11, .func (.func 27) #[] #[.pointer (some ⟨w.heap.size, 0, none⟩)]] 52) = X at *
        refine ((R8 _ _ HB.out (S.out.keep HR.out)).out).mono ?_
        rintro e x1 ⟨rfl, hb⟩
        have hx := (hb.cell (p := ⟨wr.heap.size, 0, none⟩) (by simpa using lx)).trans hx
        have HB := hide (HB.out.keep hb)
        have HP := hide (HP.out.keep hb)
        have HR := hide (HR.out.trans (hb.mono HR.out.size))
        clear hb lx
        go_wp2_with fail
        go_ret
        have h0 := PV.out.1 (by decide)
        have h1 := PV.out.2.1 (by decide)
        have h2 := PV.out.2.2.1 (by decide)
        have h3 := PV.out.2.2.2.1 (by decide)
        have h4 := PV.out.2.2.2.2.1 (by decide)
        have h5 := PV.out.2.2.2.2.2.1 (by decide)
        have h6 := PV.out.2.2.2.2.2.2.1 (by decide)
        have h7 := PV.out.2.2.2.2.2.2.2.1 (by decide)
        exact ⟨ret_i (by simp [cEb, h0, h1, h2, h3, h4, h5, h6, h7]), HR.out⟩
      · skip
        obtain ⟨_, p0, p1, p2, p3, p4, p5, p6, p7, p8, p9, p10, p11, p12, p13, p14, p15, p16, p17⟩ := HP.out
        go_wp2_with fail
        clear p0 p1 p2 p3 p4 p5 p6 p7 p8 p9 p10 p11 p12 p13 p14 p15 p16 p17
        have hx : (wr.alloc (Obj.cells #[.int .i64 11, .func (.func 27) #[] #[.pointer (some ⟨w.heap.size, 0, none⟩)]] 52)).cell? ⟨wr.heap.size, 0, none⟩ = some (.int .i64 11) := by simp [go_sem]
        have lx : wr.heap.size < (wr.alloc (Obj.cells #[.int .i64 11, .func (.func 27) #[] #[.pointer (some ⟨w.heap.size, 0, none⟩)]] 52)).heap.size := by simp
        have hb := one_alloc wr (Obj.cells #[.int .i64 11, .func (.func 27) #[] #[.pointer (some ⟨w.heap.size, 0, none⟩)]] 52)
        have HB := hide (HB.out.keep hb)
        have HP := hide (HP.out.keep hb)
        have HR := hide (HR.out.trans (hb.mono HR.out.size))
        clear hb
        generalize wr.alloc (Obj.cells #[.int .i64 11, .func (.func 27) #[] #[.pointer (some ⟨w.heap.size, 0, none⟩)]] 52) = X at *
        refine ((R8 _ _ HB.out (S.out.keep HR.out)).out).mono ?_
        rintro e x1 ⟨rfl, hb⟩
        have hx := (hb.cell (p := ⟨wr.heap.size, 0, none⟩) (by simpa using lx)).trans hx
        have HB := hide (HB.out.keep hb)
        have HP := hide (HP.out.keep hb)
        have HR := hide (HR.out.trans (hb.mono HR.out.size))
        clear hb lx
        go_wp2_with fail
        go_roundw
        case rel => exact ⟨9, rfl, by omega, by omega, hide ⟨fun _ => PV.out.1 (by decide), fun _ => PV.out.2.1 (by decide), fun _ => PV.out.2.2.1 (by decide), fun _ => PV.out.2.2.2.1 (by decide), fun _ => PV.out.2.2.2.2.1 (by decide), fun _ => PV.out.2.2.2.2.2.1 (by decide), fun _ => PV.out.2.2.2.2.2.2.1 (by decide), fun _ => PV.out.2.2.2.2.2.2.2.1 (by decide), fun _ => (by first | rfl | trivial)⟩, HB, HP, HR⟩
        case measure => simp [intOf]
    · skip
      go_wp2_with fail
      go_ret
      have h0 := PV.out.1 (by decide)
      have h1 := PV.out.2.1 (by decide)
      have h2 := PV.out.2.2.1 (by decide)
      have h3 := PV.out.2.2.2.1 (by decide)
      have h4 := PV.out.2.2.2.2.1 (by decide)
      have h5 := PV.out.2.2.2.2.2.1 (by decide)
      have h6 := PV.out.2.2.2.2.2.2.1 (by decide)
      have h7 := PV.out.2.2.2.2.2.2.2.1 (by decide)
      have h8 := PV.out.2.2.2.2.2.2.2.2 (by decide)
      exact ⟨ret_i (by simp [cEb, h0, h1, h2, h3, h4, h5, h6, h7, h8]), HR.out⟩
end Go.Proofs.YtkmpmegiiaamdaaDoor
