/-
  A charge in a block; the contracts of charge and of the rates' check at this translation.
-/
import Derived.Test.YtkmpmegiiaamdaaDoorG1
import Derived.Test.YtkmpmegiiaamdaaDoorFr2
namespace Go.Proofs.YtkmpmegiiaamdaaDoor
open Go.RowKit
set_option linter.unusedVariables false
set_option linter.unusedSimpArgs false
set_option linter.unnecessarySimpa false

/-- A charge. -/
structure Ch where
  rf : ByteArray
  fr : ByteArray
  to : ByteArray
  x : Int
def zC : Ch := ⟨⟨#[]⟩, ⟨#[]⟩, ⟨#[]⟩, 0⟩
structure CB (b : Nat) (h : Ch) (wx : World) : Prop where
  lt : b < wx.heap.size
  c0 : wx.cell? ⟨b, 0, none⟩ = some (.string h.rf)
  c1 : wx.cell? ⟨b, 1, none⟩ = some (.string h.fr)
  c2 : wx.cell? ⟨b, 2, none⟩ = some (.string h.to)
  c3 : wx.cell? ⟨b, 3, none⟩ = some (.int .i64 h.x)
  z : ∀ i, wx.frozen? ⟨b, i, none⟩ = false
theorem CB.keep {b : Nat} {h : Ch} {wx wy : World} (k : CB b h wx) (hb : Below wx.heap.size wx wy) : CB b h wy := by
  have l := k.lt
  have s := hb.size
  exact ⟨by omega, (hb.cell (p := ⟨b, 0, none⟩) (by simpa using l)).trans k.c0, (hb.cell (p := ⟨b, 1, none⟩) (by simpa using l)).trans k.c1, (hb.cell (p := ⟨b, 2, none⟩) (by simpa using l)).trans k.c2, (hb.cell (p := ⟨b, 3, none⟩) (by simpa using l)).trans k.c3, fun i => (hb.frozen (p := ⟨b, i, none⟩) (by simpa using l)).trans (k.z i)⟩
theorem CB.new (h : Ch) (w : World) (T : TypeId) : CB w.heap.size h (w.alloc (Obj.cells #[.string h.rf, .string h.fr, .string h.to, .int .i64 h.x] T)) := by
  refine ⟨by simp, ?_, ?_, ?_, ?_, fun i => by simp [go_sem]⟩ <;> simp [go_sem]
/-- Whom a charge goes to. -/
def chC (t : Cs) (x : Int) : Ch := if t.ft = 0 then ⟨t.rf, t.d, t.r, x⟩ else ⟨t.rf, t.r, t.d, x⟩
set_option maxHeartbeats 4000000 in
theorem charge_any (t : Cs) (x : Int) (w : World) : Calls Tryd.prog 32 #[.agg #[.string t.rf, .string t.d, .string t.r, .string t.a, .int .i64 t.q, .int .i64 t.v, .int .i64 t.sd, .int .i64 t.ft], .int .i64 x] w fun e w' => e = .returned (.agg #[.string (chC t x).rf, .string (chC t x).fr, .string (chC t x).to, .int .i64 (chC t x).x]) ∧ Below w.heap.size w w' := by
  by_cases h : t.ft = 0
  · have e : chC t x = ⟨t.rf, t.d, t.r, x⟩ := if_pos h
    rw [e]
    have k : (t.ft == 0) = true := by simpa using h
    clear h e
    go_enter Tryd.func32, Tryd.ntmps32
    go_wp2_with fail
    exact bodyPost_ret (v := .agg #[.string t.rf, .string t.d, .string t.r, .int .i64 x]) (by simp [results, Tryd.results32, go_sem]) rfl ⟨rfl, two_allocs _ _ _⟩
  · have e : chC t x = ⟨t.rf, t.r, t.d, x⟩ := if_neg h
    rw [e]
    have k : (t.ft == 0) = false := by simpa using h
    clear h e
    go_enter Tryd.func32, Tryd.ntmps32
    go_wp2_with fail
    exact bodyPost_ret (v := .agg #[.string t.rf, .string t.r, .string t.d, .int .i64 x]) (by simp [results, Tryd.results32, go_sem]) rfl ⟨rfl, two_allocs _ _ _⟩
/-- Whether a rate is one. -/
def rtB (n d : Int) : Bool := decide (ckE n d = 0) && (decide (0 ≤ n) && decide (n ≤ d))
structure I4 (a b c d : Int) : Prop where
  a : -9223372036854775808 ≤ a ∧ a ≤ 9223372036854775807
  b : -9223372036854775808 ≤ b ∧ b ≤ 9223372036854775807
  c : -9223372036854775808 ≤ c ∧ c ≤ 9223372036854775807
  d : -9223372036854775808 ≤ d ∧ d ≤ 9223372036854775807
structure Q4 (p : Nat) (a b c d : Int) (wx : World) : Prop where
  lt : p < wx.heap.size
  c0 : wx.cell? ⟨p, 0, none⟩ = some (.int .i64 a)
  c1 : wx.cell? ⟨p, 1, none⟩ = some (.int .i64 b)
  c2 : wx.cell? ⟨p, 2, none⟩ = some (.int .i64 c)
  c3 : wx.cell? ⟨p, 3, none⟩ = some (.int .i64 d)
theorem Q4.keep {p : Nat} {a b c d : Int} {wx wy : World} (k : Q4 p a b c d wx) (hb : Below wx.heap.size wx wy) : Q4 p a b c d wy := by
  have l := k.lt
  have s := hb.size
  exact ⟨by omega, (hb.cell (p := ⟨p, 0, none⟩) (by simpa using l)).trans k.c0, (hb.cell (p := ⟨p, 1, none⟩) (by simpa using l)).trans k.c1, (hb.cell (p := ⟨p, 2, none⟩) (by simpa using l)).trans k.c2, (hb.cell (p := ⟨p, 3, none⟩) (by simpa using l)).trans k.c3⟩
theorem Q4.new (a b c d : Int) (w : World) (T : TypeId) : Q4 w.heap.size a b c d (w.alloc (Obj.cells #[.int .i64 a, .int .i64 b, .int .i64 c, .int .i64 d] T)) := by
  refine ⟨by simp, ?_, ?_, ?_, ?_⟩ <;> simp [go_sem]
set_option maxHeartbeats 8000000 in
theorem rates_any (a b c d : Int) (w : World) (h : I4 a b c d) : Calls Tryd.prog 30 #[.agg #[.int .i64 a, .int .i64 b, .int .i64 c, .int .i64 d]] w fun e w' => e = .returned (.bool (rtB a b && rtB c d)) ∧ Below w.heap.size w w' := by
  have K1 := fun w => hide (check_any a b w h.a.1 h.a.2 h.b.1 h.b.2)
  have K2 := fun w => hide (check_any c d w h.c.1 h.c.2 h.d.1 h.d.2)
  have HR := hide (two_allocs w (Obj.cells #[.int .i64 a, .int .i64 b, .int .i64 c, .int .i64 d] 41) (Obj.cells #[.int .i64 a, .int .i64 b, .int .i64 c, .int .i64 d] 39))
  have HP := hide (Q4.new a b c d (w.alloc (Obj.cells #[.int .i64 a, .int .i64 b, .int .i64 c, .int .i64 d] 41)) 39)
  have s9 : (w.alloc (Obj.cells #[.int .i64 a, .int .i64 b, .int .i64 c, .int .i64 d] 41)).heap.size = w.heap.size + 1 := by simp
  rw [s9] at HP
  clear s9 h
  unfold rtB
  generalize ckE a b = E1 at *
  generalize ckE c d = E2 at *
  go_enter Tryd.func30, Tryd.ntmps30
  go_wp2_with fail
  go_loopw [11] (fun s11 wr => ∃ i : Int, s11 = .int .i64 i ∧ 0 ≤ i ∧ i ≤ 2 ∧ Hid ((0 < i → (decide (E1 = 0) && (decide (0 ≤ a) && decide (a ≤ b))) = true) ∧ (1 < i → (decide (E2 = 0) && (decide (0 ≤ c) && decide (c ≤ d))) = true)) ∧ Hid (Q4 (w.heap.size + 1) a b c d wr) ∧ Hid (Below w.heap.size w wr)) (fun s11 _ => (2 - intOf s11).toNat)
  case atStart => exact ⟨0, rfl, by omega, by omega, hide ⟨fun h => absurd h (by decide), fun h => absurd h (by decide)⟩, HP, HR⟩
  case round =>
    clear HP HR
    obtain ⟨i, rfl, i0, i9, PV, HP, HR⟩ := hrel
    have hi : i = 0 ∨ i = 1 ∨ i = 2 := by omega
    clear i0 i9
    rcases hi with rfl | rfl | rfl
    · skip
      by_cases e1 : E1 = 0
      · have q1 : (E1 != 0) = false := by simpa using e1
        by_cases e2 : 0 ≤ a
        · by_cases e3 : a ≤ b
          · have GV : Hid ((decide (E1 = 0) && (decide (0 ≤ a) && decide (a ≤ b))) = true) := hide (by simp [e1, e2, e3])
            clear e1
            obtain ⟨_, p0, p1, p2, p3⟩ := HP.out
            go_wp2_with fail
            clear p0 p1 p2 p3
            have h0 : (wr.alloc (Obj.cells #[.int .i64 a, .int .i64 b] 39)).cell? ⟨wr.heap.size, 0, none⟩ = some (.int .i64 a) := by simp [go_sem]
            have h1 : (wr.alloc (Obj.cells #[.int .i64 a, .int .i64 b] 39)).cell? ⟨wr.heap.size, 1, none⟩ = some (.int .i64 b) := by simp [go_sem]
            have lx : wr.heap.size < (wr.alloc (Obj.cells #[.int .i64 a, .int .i64 b] 39)).heap.size := by simp
            have hb := one_alloc wr (Obj.cells #[.int .i64 a, .int .i64 b] 39)
            have HP := hide (HP.out.keep hb)
            have HR := hide (HR.out.trans (hb.mono HR.out.size))
            clear hb
            generalize wr.alloc (Obj.cells #[.int .i64 a, .int .i64 b] 39) = X at *
            refine ((K1 _).out).mono ?_
            rintro e x1 ⟨rfl, hb⟩
            have h0 := (hb.cell (p := ⟨wr.heap.size, 0, none⟩) (by simpa using lx)).trans h0
            have h1 := (hb.cell (p := ⟨wr.heap.size, 1, none⟩) (by simpa using lx)).trans h1
            have HP := hide (HP.out.keep hb)
            have HR := hide (HR.out.trans (hb.mono HR.out.size))
            clear hb lx
            go_wp2_with fail
            go_roundw
            case rel => exact ⟨1, rfl, by omega, by omega, hide ⟨fun _ => GV.out, fun h => absurd h (by decide)⟩, HP, HR⟩
            case measure => simp [intOf]
          · have FV : Hid ((decide (E1 = 0) && (decide (0 ≤ a) && decide (a ≤ b))) = false) := hide (by simp [e3])
            have e3 : b < a := by omega
            clear e1
            obtain ⟨_, p0, p1, p2, p3⟩ := HP.out
            go_wp2_with fail
            clear p0 p1 p2 p3
            have h0 : (wr.alloc (Obj.cells #[.int .i64 a, .int .i64 b] 39)).cell? ⟨wr.heap.size, 0, none⟩ = some (.int .i64 a) := by simp [go_sem]
            have h1 : (wr.alloc (Obj.cells #[.int .i64 a, .int .i64 b] 39)).cell? ⟨wr.heap.size, 1, none⟩ = some (.int .i64 b) := by simp [go_sem]
            have lx : wr.heap.size < (wr.alloc (Obj.cells #[.int .i64 a, .int .i64 b] 39)).heap.size := by simp
            have hb := one_alloc wr (Obj.cells #[.int .i64 a, .int .i64 b] 39)
            have HP := hide (HP.out.keep hb)
            have HR := hide (HR.out.trans (hb.mono HR.out.size))
            clear hb
            generalize wr.alloc (Obj.cells #[.int .i64 a, .int .i64 b] 39) = X at *
            refine ((K1 _).out).mono ?_
            rintro e x1 ⟨rfl, hb⟩
            have h0 := (hb.cell (p := ⟨wr.heap.size, 0, none⟩) (by simpa using lx)).trans h0
            have h1 := (hb.cell (p := ⟨wr.heap.size, 1, none⟩) (by simpa using lx)).trans h1
            have HP := hide (HP.out.keep hb)
            have HR := hide (HR.out.trans (hb.mono HR.out.size))
            clear hb lx
            go_wp2_with fail
            go_ret
            exact ⟨ret_b (by rw [FV.out, Bool.false_and]), HR.out⟩
        · have FV : Hid ((decide (E1 = 0) && (decide (0 ≤ a) && decide (a ≤ b))) = false) := hide (by simp [e2])
          have e2 : a < 0 := by omega
          clear e1
          obtain ⟨_, p0, p1, p2, p3⟩ := HP.out
          go_wp2_with fail
          clear p0 p1 p2 p3
          have h0 : (wr.alloc (Obj.cells #[.int .i64 a, .int .i64 b] 39)).cell? ⟨wr.heap.size, 0, none⟩ = some (.int .i64 a) := by simp [go_sem]
          have h1 : (wr.alloc (Obj.cells #[.int .i64 a, .int .i64 b] 39)).cell? ⟨wr.heap.size, 1, none⟩ = some (.int .i64 b) := by simp [go_sem]
          have lx : wr.heap.size < (wr.alloc (Obj.cells #[.int .i64 a, .int .i64 b] 39)).heap.size := by simp
          have hb := one_alloc wr (Obj.cells #[.int .i64 a, .int .i64 b] 39)
          have HP := hide (HP.out.keep hb)
          have HR := hide (HR.out.trans (hb.mono HR.out.size))
          clear hb
          generalize wr.alloc (Obj.cells #[.int .i64 a, .int .i64 b] 39) = X at *
          refine ((K1 _).out).mono ?_
          rintro e x1 ⟨rfl, hb⟩
          have h0 := (hb.cell (p := ⟨wr.heap.size, 0, none⟩) (by simpa using lx)).trans h0
          have h1 := (hb.cell (p := ⟨wr.heap.size, 1, none⟩) (by simpa using lx)).trans h1
          have HP := hide (HP.out.keep hb)
          have HR := hide (HR.out.trans (hb.mono HR.out.size))
          clear hb lx
          go_wp2_with fail
          go_ret
          exact ⟨ret_b (by rw [FV.out, Bool.false_and]), HR.out⟩
      · have q1 : (E1 != 0) = true := by simpa using e1
        have FV : Hid ((decide (E1 = 0) && (decide (0 ≤ a) && decide (a ≤ b))) = false) := hide (by simp [e1])
        clear e1
        obtain ⟨_, p0, p1, p2, p3⟩ := HP.out
        go_wp2_with fail
        clear p0 p1 p2 p3
        have h0 : (wr.alloc (Obj.cells #[.int .i64 a, .int .i64 b] 39)).cell? ⟨wr.heap.size, 0, none⟩ = some (.int .i64 a) := by simp [go_sem]
        have h1 : (wr.alloc (Obj.cells #[.int .i64 a, .int .i64 b] 39)).cell? ⟨wr.heap.size, 1, none⟩ = some (.int .i64 b) := by simp [go_sem]
        have lx : wr.heap.size < (wr.alloc (Obj.cells #[.int .i64 a, .int .i64 b] 39)).heap.size := by simp
        have hb := one_alloc wr (Obj.cells #[.int .i64 a, .int .i64 b] 39)
        have HP := hide (HP.out.keep hb)
        have HR := hide (HR.out.trans (hb.mono HR.out.size))
        clear hb
        generalize wr.alloc (Obj.cells #[.int .i64 a, .int .i64 b] 39) = X at *
        refine ((K1 _).out).mono ?_
        rintro e x1 ⟨rfl, hb⟩
        have h0 := (hb.cell (p := ⟨wr.heap.size, 0, none⟩) (by simpa using lx)).trans h0
        have h1 := (hb.cell (p := ⟨wr.heap.size, 1, none⟩) (by simpa using lx)).trans h1
        have HP := hide (HP.out.keep hb)
        have HR := hide (HR.out.trans (hb.mono HR.out.size))
        clear hb lx
        go_wp2_with fail
        go_ret
        exact ⟨ret_b (by rw [FV.out, Bool.false_and]), HR.out⟩
    · skip
      by_cases e1 : E2 = 0
      · have q1 : (E2 != 0) = false := by simpa using e1
        by_cases e2 : 0 ≤ c
        · by_cases e3 : c ≤ d
          · have GV : Hid ((decide (E2 = 0) && (decide (0 ≤ c) && decide (c ≤ d))) = true) := hide (by simp [e1, e2, e3])
            clear e1
            obtain ⟨_, p0, p1, p2, p3⟩ := HP.out
            go_wp2_with fail
            clear p0 p1 p2 p3
            have h0 : (wr.alloc (Obj.cells #[.int .i64 c, .int .i64 d] 39)).cell? ⟨wr.heap.size, 0, none⟩ = some (.int .i64 c) := by simp [go_sem]
            have h1 : (wr.alloc (Obj.cells #[.int .i64 c, .int .i64 d] 39)).cell? ⟨wr.heap.size, 1, none⟩ = some (.int .i64 d) := by simp [go_sem]
            have lx : wr.heap.size < (wr.alloc (Obj.cells #[.int .i64 c, .int .i64 d] 39)).heap.size := by simp
            have hb := one_alloc wr (Obj.cells #[.int .i64 c, .int .i64 d] 39)
            have HP := hide (HP.out.keep hb)
            have HR := hide (HR.out.trans (hb.mono HR.out.size))
            clear hb
            generalize wr.alloc (Obj.cells #[.int .i64 c, .int .i64 d] 39) = X at *
            refine ((K2 _).out).mono ?_
            rintro e x1 ⟨rfl, hb⟩
            have h0 := (hb.cell (p := ⟨wr.heap.size, 0, none⟩) (by simpa using lx)).trans h0
            have h1 := (hb.cell (p := ⟨wr.heap.size, 1, none⟩) (by simpa using lx)).trans h1
            have HP := hide (HP.out.keep hb)
            have HR := hide (HR.out.trans (hb.mono HR.out.size))
            clear hb lx
            go_wp2_with fail
            go_roundw
            case rel => exact ⟨2, rfl, by omega, by omega, hide ⟨fun _ => PV.out.1 (by decide), fun _ => GV.out⟩, HP, HR⟩
            case measure => simp [intOf]
          · have FV : Hid ((decide (E2 = 0) && (decide (0 ≤ c) && decide (c ≤ d))) = false) := hide (by simp [e3])
            have e3 : d < c := by omega
            clear e1
            obtain ⟨_, p0, p1, p2, p3⟩ := HP.out
            go_wp2_with fail
            clear p0 p1 p2 p3
            have h0 : (wr.alloc (Obj.cells #[.int .i64 c, .int .i64 d] 39)).cell? ⟨wr.heap.size, 0, none⟩ = some (.int .i64 c) := by simp [go_sem]
            have h1 : (wr.alloc (Obj.cells #[.int .i64 c, .int .i64 d] 39)).cell? ⟨wr.heap.size, 1, none⟩ = some (.int .i64 d) := by simp [go_sem]
            have lx : wr.heap.size < (wr.alloc (Obj.cells #[.int .i64 c, .int .i64 d] 39)).heap.size := by simp
            have hb := one_alloc wr (Obj.cells #[.int .i64 c, .int .i64 d] 39)
            have HP := hide (HP.out.keep hb)
            have HR := hide (HR.out.trans (hb.mono HR.out.size))
            clear hb
            generalize wr.alloc (Obj.cells #[.int .i64 c, .int .i64 d] 39) = X at *
            refine ((K2 _).out).mono ?_
            rintro e x1 ⟨rfl, hb⟩
            have h0 := (hb.cell (p := ⟨wr.heap.size, 0, none⟩) (by simpa using lx)).trans h0
            have h1 := (hb.cell (p := ⟨wr.heap.size, 1, none⟩) (by simpa using lx)).trans h1
            have HP := hide (HP.out.keep hb)
            have HR := hide (HR.out.trans (hb.mono HR.out.size))
            clear hb lx
            go_wp2_with fail
            go_ret
            exact ⟨ret_b (by rw [FV.out, Bool.and_false]), HR.out⟩
        · have FV : Hid ((decide (E2 = 0) && (decide (0 ≤ c) && decide (c ≤ d))) = false) := hide (by simp [e2])
          have e2 : c < 0 := by omega
          clear e1
          obtain ⟨_, p0, p1, p2, p3⟩ := HP.out
          go_wp2_with fail
          clear p0 p1 p2 p3
          have h0 : (wr.alloc (Obj.cells #[.int .i64 c, .int .i64 d] 39)).cell? ⟨wr.heap.size, 0, none⟩ = some (.int .i64 c) := by simp [go_sem]
          have h1 : (wr.alloc (Obj.cells #[.int .i64 c, .int .i64 d] 39)).cell? ⟨wr.heap.size, 1, none⟩ = some (.int .i64 d) := by simp [go_sem]
          have lx : wr.heap.size < (wr.alloc (Obj.cells #[.int .i64 c, .int .i64 d] 39)).heap.size := by simp
          have hb := one_alloc wr (Obj.cells #[.int .i64 c, .int .i64 d] 39)
          have HP := hide (HP.out.keep hb)
          have HR := hide (HR.out.trans (hb.mono HR.out.size))
          clear hb
          generalize wr.alloc (Obj.cells #[.int .i64 c, .int .i64 d] 39) = X at *
          refine ((K2 _).out).mono ?_
          rintro e x1 ⟨rfl, hb⟩
          have h0 := (hb.cell (p := ⟨wr.heap.size, 0, none⟩) (by simpa using lx)).trans h0
          have h1 := (hb.cell (p := ⟨wr.heap.size, 1, none⟩) (by simpa using lx)).trans h1
          have HP := hide (HP.out.keep hb)
          have HR := hide (HR.out.trans (hb.mono HR.out.size))
          clear hb lx
          go_wp2_with fail
          go_ret
          exact ⟨ret_b (by rw [FV.out, Bool.and_false]), HR.out⟩
      · have q1 : (E2 != 0) = true := by simpa using e1
        have FV : Hid ((decide (E2 = 0) && (decide (0 ≤ c) && decide (c ≤ d))) = false) := hide (by simp [e1])
        clear e1
        obtain ⟨_, p0, p1, p2, p3⟩ := HP.out
        go_wp2_with fail
        clear p0 p1 p2 p3
        have h0 : (wr.alloc (Obj.cells #[.int .i64 c, .int .i64 d] 39)).cell? ⟨wr.heap.size, 0, none⟩ = some (.int .i64 c) := by simp [go_sem]
        have h1 : (wr.alloc (Obj.cells #[.int .i64 c, .int .i64 d] 39)).cell? ⟨wr.heap.size, 1, none⟩ = some (.int .i64 d) := by simp [go_sem]
        have lx : wr.heap.size < (wr.alloc (Obj.cells #[.int .i64 c, .int .i64 d] 39)).heap.size := by simp
        have hb := one_alloc wr (Obj.cells #[.int .i64 c, .int .i64 d] 39)
        have HP := hide (HP.out.keep hb)
        have HR := hide (HR.out.trans (hb.mono HR.out.size))
        clear hb
        generalize wr.alloc (Obj.cells #[.int .i64 c, .int .i64 d] 39) = X at *
        refine ((K2 _).out).mono ?_
        rintro e x1 ⟨rfl, hb⟩
        have h0 := (hb.cell (p := ⟨wr.heap.size, 0, none⟩) (by simpa using lx)).trans h0
        have h1 := (hb.cell (p := ⟨wr.heap.size, 1, none⟩) (by simpa using lx)).trans h1
        have HP := hide (HP.out.keep hb)
        have HR := hide (HR.out.trans (hb.mono HR.out.size))
        clear hb lx
        go_wp2_with fail
        go_ret
        exact ⟨ret_b (by rw [FV.out, Bool.and_false]), HR.out⟩
    · skip
      go_wp2_with fail
      go_ret
      exact ⟨ret_b (by rw [PV.out.1 (by decide), PV.out.2 (by decide)]; rfl), HR.out⟩
end Go.Proofs.YtkmpmegiiaamdaaDoor
