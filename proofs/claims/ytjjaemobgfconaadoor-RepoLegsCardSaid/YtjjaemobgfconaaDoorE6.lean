/-
  Check.
-/
import Derived.Test.YtjjaemobgfconaaDoorE5
import Derived.WalkKit
import Derived.Deep.QuietTactic
import Derived.BigQuiet
import Derived.Laws.EntriesVeiled
import Derived.Lib.MinMax
import Derived.Deep.Light
namespace Go.Proofs.YtjjaemobgfconaaDoor
open Go.RowKit
set_option linter.unusedVariables false
set_option linter.unusedSimpArgs false
set_option linter.unnecessarySimpa false

/-- A block holds the four checks of an agreement. -/
structure CB (p : Nat) (t : Ag) (wx : World) : Prop where
  lt : p < wx.heap.size
  c0 : wx.cell? ⟨p, 0, none⟩ = some (.func (.func 30) #[.agg #[.string t.rf, .string t.se, .string t.bu, .string t.sn, .int .i64 t.q, .int .i64 t.c, .int .i64 t.n, .int .i64 t.d, .int .i64 t.op, .int .i64 t.cl]] #[])
  c1 : wx.cell? ⟨p, 1, none⟩ = some (.func (.func 31) #[.agg #[.string t.rf, .string t.se, .string t.bu, .string t.sn, .int .i64 t.q, .int .i64 t.c, .int .i64 t.n, .int .i64 t.d, .int .i64 t.op, .int .i64 t.cl]] #[])
  c2 : wx.cell? ⟨p, 2, none⟩ = some (.func (.func 32) #[.agg #[.string t.rf, .string t.se, .string t.bu, .string t.sn, .int .i64 t.q, .int .i64 t.c, .int .i64 t.n, .int .i64 t.d, .int .i64 t.op, .int .i64 t.cl]] #[])
  c3 : wx.cell? ⟨p, 3, none⟩ = some (.func (.func 33) #[.agg #[.string t.rf, .string t.se, .string t.bu, .string t.sn, .int .i64 t.q, .int .i64 t.c, .int .i64 t.n, .int .i64 t.d, .int .i64 t.op, .int .i64 t.cl]] #[])
theorem CB.keep {p : Nat} {t : Ag} {wx wy : World} (h : CB p t wx) (hb : Below wx.heap.size wx wy) : CB p t wy := by
  have l := h.lt
  have s := hb.size
  exact ⟨by omega, (hb.cell (p := ⟨p, 0, none⟩) (by simpa using l)).trans h.c0, (hb.cell (p := ⟨p, 1, none⟩) (by simpa using l)).trans h.c1, (hb.cell (p := ⟨p, 2, none⟩) (by simpa using l)).trans h.c2, (hb.cell (p := ⟨p, 3, none⟩) (by simpa using l)).trans h.c3⟩
theorem CB.new (t : Ag) (w : World) (T : TypeId) : CB w.heap.size t (w.alloc (Obj.cells #[.func (.func 30) #[.agg #[.string t.rf, .string t.se, .string t.bu, .string t.sn, .int .i64 t.q, .int .i64 t.c, .int .i64 t.n, .int .i64 t.d, .int .i64 t.op, .int .i64 t.cl]] #[], .func (.func 31) #[.agg #[.string t.rf, .string t.se, .string t.bu, .string t.sn, .int .i64 t.q, .int .i64 t.c, .int .i64 t.n, .int .i64 t.d, .int .i64 t.op, .int .i64 t.cl]] #[], .func (.func 32) #[.agg #[.string t.rf, .string t.se, .string t.bu, .string t.sn, .int .i64 t.q, .int .i64 t.c, .int .i64 t.n, .int .i64 t.d, .int .i64 t.op, .int .i64 t.cl]] #[], .func (.func 33) #[.agg #[.string t.rf, .string t.se, .string t.bu, .string t.sn, .int .i64 t.q, .int .i64 t.c, .int .i64 t.n, .int .i64 t.d, .int .i64 t.op, .int .i64 t.cl]] #[]] T)) := by
  refine ⟨by simp, ?_, ?_, ?_, ?_⟩ <;> simp [go_sem]
/-- What Check answers. -/
def agE (t : Ag) : Int := if nmE t ≠ 0 then nmE t else if tmE t ≠ 0 then tmE t else if daE t ≠ 0 then daE t else rpE t
set_option maxHeartbeats 8000000 in
set_option maxRecDepth 20000 in
theorem acheck_any (t : Ag) (w : World) (S : Shp w) (h : t.Ok) : Calls Tryd.prog 14 #[.agg #[.string t.rf, .string t.se, .string t.bu, .string t.sn, .int .i64 t.q, .int .i64 t.c, .int .i64 t.n, .int .i64 t.d, .int .i64 t.op, .int .i64 t.cl]] w fun e w' => e = .returned (.int .i64 (agE t)) ∧ Below w.heap.size w w' := by
  have hmf : ∀ (fn : Fn) (first cap : Array Value) (w : World), (Instr.makeFunc fn first cap).run Tryd.prog w = .ok (.func fn first cap) w := fun _ _ _ _ => rfl
  have S := hide S
  have R0 := fun w S => hide (names_any t w S h)
  have R1 := fun w => hide (terms_any t w h)
  have R2 := fun w => hide (days_any t w)
  have R3 := fun w h1 h2 => hide (rep_any t w (fit_of h1) h2)
  have hE := hide (show agE t = if nmE t ≠ 0 then nmE t else if tmE t ≠ 0 then tmE t else if daE t ≠ 0 then daE t else rpE t from rfl)
  clear h
  generalize agE t = E at *
  generalize nmE t = E0 at *
  generalize rpE t = E3 at *
  have R3 : tmE t = 0 → daE t = 0 → ∀ w, Hid (Calls Tryd.prog 33 #[.agg #[.string t.rf, .string t.se, .string t.bu, .string t.sn, .int .i64 t.q, .int .i64 t.c, .int .i64 t.n, .int .i64 t.d, .int .i64 t.op, .int .i64 t.cl]] w fun e w' => e = .returned (.int .i64 E3) ∧ Below w.heap.size w w') := fun h1 h2 w => R3 w h1 h2
  generalize tmE t = E1 at *
  generalize daE t = E2 at *
  have HR := hide (one_alloc w (Obj.cells #[.string t.rf, .string t.se, .string t.bu, .string t.sn, .int .i64 t.q, .int .i64 t.c, .int .i64 t.n, .int .i64 t.d, .int .i64 t.op, .int .i64 t.cl] 28))
  have HB := hide (RB.new t w 28)
  go_enter Tryd.func14, Tryd.ntmps14
  obtain ⟨_, c0, c1, c2, c3, c4, c5, c6, c7, c8, c9⟩ := HB.out
  go_wp2_with fail
  have HP := hide (CB.new t (w.alloc (Obj.cells #[.string t.rf, .string t.se, .string t.bu, .string t.sn, .int .i64 t.q, .int .i64 t.c, .int .i64 t.n, .int .i64 t.d, .int .i64 t.op, .int .i64 t.cl] 28)) 38)
  have hs : (w.alloc (Obj.cells #[.string t.rf, .string t.se, .string t.bu, .string t.sn, .int .i64 t.q, .int .i64 t.c, .int .i64 t.n, .int .i64 t.d, .int .i64 t.op, .int .i64 t.cl] 28)).heap.size = w.heap.size + 1 := Array.size_push _
  rw [hs] at HP
  clear hs
  have HR := hide (HR.out.trans ((one_alloc (w.alloc (Obj.cells #[.string t.rf, .string t.se, .string t.bu, .string t.sn, .int .i64 t.q, .int .i64 t.c, .int .i64 t.n, .int .i64 t.d, .int .i64 t.op, .int .i64 t.cl] 28)) (Obj.cells #[.func (.func 30) #[.agg #[.string t.rf, .string t.se, .string t.bu, .string t.sn, .int .i64 t.q, .int .i64 t.c, .int .i64 t.n, .int .i64 t.d, .int .i64 t.op, .int .i64 t.cl]] #[], .func (.func 31) #[.agg #[.string t.rf, .string t.se, .string t.bu, .string t.sn, .int .i64 t.q, .int .i64 t.c, .int .i64 t.n, .int .i64 t.d, .int .i64 t.op, .int .i64 t.cl]] #[], .func (.func 32) #[.agg #[.string t.rf, .string t.se, .string t.bu, .string t.sn, .int .i64 t.q, .int .i64 t.c, .int .i64 t.n, .int .i64 t.d, .int .i64 t.op, .int .i64 t.cl]] #[], .func (.func 33) #[.agg #[.string t.rf, .string t.se, .string t.bu, .string t.sn, .int .i64 t.q, .int .i64 t.c, .int .i64 t.n, .int .i64 t.d, .int .i64 t.op, .int .i64 t.cl]] #[]] 38)).mono HR.out.size))
  generalize w.alloc (Obj.cells #[.string t.rf, .string t.se, .string t.bu, .string t.sn, .int .i64 t.q, .int .i64 t.c, .int .i64 t.n, .int .i64 t.d, .int .i64 t.op, .int .i64 t.cl] 28) = X at *
  generalize X.alloc (Obj.cells #[.func (.func 30) #[.agg #[.string t.rf, .string t.se, .string t.bu, .string t.sn, .int .i64 t.q, .int .i64 t.c, .int .i64 t.n, .int .i64 t.d, .int .i64 t.op, .int .i64 t.cl]] #[], .func (.func 31) #[.agg #[.string t.rf, .string t.se, .string t.bu, .string t.sn, .int .i64 t.q, .int .i64 t.c, .int .i64 t.n, .int .i64 t.d, .int .i64 t.op, .int .i64 t.cl]] #[], .func (.func 32) #[.agg #[.string t.rf, .string t.se, .string t.bu, .string t.sn, .int .i64 t.q, .int .i64 t.c, .int .i64 t.n, .int .i64 t.d, .int .i64 t.op, .int .i64 t.cl]] #[], .func (.func 33) #[.agg #[.string t.rf, .string t.se, .string t.bu, .string t.sn, .int .i64 t.q, .int .i64 t.c, .int .i64 t.n, .int .i64 t.d, .int .i64 t.op, .int .i64 t.cl]] #[]] 38) = Y at *
  clear HB c0 c1 c2 c3 c4 c5 c6 c7 c8 c9
  go_loopw [16] (fun v16 wr => ∃ i : Int, v16 = .int .i64 i ∧ 0 ≤ i ∧ i ≤ 4 ∧ Hid ((0 < i → E0 = 0) ∧ (1 < i → E1 = 0) ∧ (2 < i → E2 = 0) ∧ (3 < i → E3 = 0)) ∧ Hid (CB (w.heap.size + 1) t wr) ∧ Hid (Below w.heap.size w wr)) (fun v16 _ => (4 - intOf v16).toNat)
  case atStart => exact ⟨0, rfl, by omega, by omega, hide ⟨fun h => by omega, fun h => by omega, fun h => by omega, fun h => by omega⟩, HP, HR⟩
  case round =>
    obtain ⟨i, rfl, i0, i4, PV, HP, HR⟩ := hrel
    have hi : i = 0 ∨ i = 1 ∨ i = 2 ∨ i = 3 ∨ i = 4 := by omega
    clear i0 i4
    rcases hi with rfl | rfl | rfl | rfl | rfl
    · by_cases hz : E0 = 0
      · have hz' : (E0 != 0) = false := by simpa using hz
        have hz := hide hz
        obtain ⟨_, p0, p1, p2, p3⟩ := HP.out
        go_wp2_with fail
        clear p0 p1 p2 p3
        refine ((R0 _ (S.out.keep HR.out)).out).mono ?_
        rintro e x1 ⟨rfl, hb⟩
        have HP := hide (HP.out.keep hb)
        have HR := hide (HR.out.trans (hb.mono HR.out.size))
        clear hb
        go_wp2_with fail
        go_roundw
        case rel => exact ⟨1, rfl, by omega, by omega, hide ⟨fun _ => hz.out, fun h => absurd h (by decide), fun h => absurd h (by decide), fun h => absurd h (by decide)⟩, HP, HR⟩
        case measure => simp [intOf]
      · have hz' : (E0 != 0) = true := by simpa using hz
        have hz := hide hz
        obtain ⟨_, p0, p1, p2, p3⟩ := HP.out
        go_wp2_with fail
        clear p0 p1 p2 p3
        refine ((R0 _ (S.out.keep HR.out)).out).mono ?_
        rintro e x1 ⟨rfl, hb⟩
        have HR := hide (HR.out.trans (hb.mono HR.out.size))
        clear hb
        go_wp2_with fail
        go_ret
        exact ⟨ret_i (by rw [hE.out, if_pos hz.out]), HR.out⟩
    · by_cases hz : E1 = 0
      · have hz' : (E1 != 0) = false := by simpa using hz
        have hz := hide hz
        obtain ⟨_, p0, p1, p2, p3⟩ := HP.out
        go_wp2_with fail
        clear p0 p1 p2 p3
        refine ((R1 _).out).mono ?_
        rintro e x1 ⟨rfl, hb⟩
        have HP := hide (HP.out.keep hb)
        have HR := hide (HR.out.trans (hb.mono HR.out.size))
        clear hb
        go_wp2_with fail
        go_roundw
        case rel => exact ⟨2, rfl, by omega, by omega, hide ⟨fun _ => PV.out.1 (by decide), fun _ => hz.out, fun h => absurd h (by decide), fun h => absurd h (by decide)⟩, HP, HR⟩
        case measure => simp [intOf]
      · have hz' : (E1 != 0) = true := by simpa using hz
        have hz := hide hz
        obtain ⟨_, p0, p1, p2, p3⟩ := HP.out
        go_wp2_with fail
        clear p0 p1 p2 p3
        refine ((R1 _).out).mono ?_
        rintro e x1 ⟨rfl, hb⟩
        have HR := hide (HR.out.trans (hb.mono HR.out.size))
        clear hb
        go_wp2_with fail
        go_ret
        have z0 := PV.out.1 (by decide)
        exact ⟨ret_i (by rw [hE.out, if_neg (by rw [z0]; decide), if_pos hz.out]), HR.out⟩
    · by_cases hz : E2 = 0
      · have hz' : (E2 != 0) = false := by simpa using hz
        have hz := hide hz
        obtain ⟨_, p0, p1, p2, p3⟩ := HP.out
        go_wp2_with fail
        clear p0 p1 p2 p3
        refine ((R2 _).out).mono ?_
        rintro e x1 ⟨rfl, hb⟩
        have HP := hide (HP.out.keep hb)
        have HR := hide (HR.out.trans (hb.mono HR.out.size))
        clear hb
        go_wp2_with fail
        go_roundw
        case rel => exact ⟨3, rfl, by omega, by omega, hide ⟨fun _ => PV.out.1 (by decide), fun _ => PV.out.2.1 (by decide), fun _ => hz.out, fun h => absurd h (by decide)⟩, HP, HR⟩
        case measure => simp [intOf]
      · have hz' : (E2 != 0) = true := by simpa using hz
        have hz := hide hz
        obtain ⟨_, p0, p1, p2, p3⟩ := HP.out
        go_wp2_with fail
        clear p0 p1 p2 p3
        refine ((R2 _).out).mono ?_
        rintro e x1 ⟨rfl, hb⟩
        have HR := hide (HR.out.trans (hb.mono HR.out.size))
        clear hb
        go_wp2_with fail
        go_ret
        have z0 := PV.out.1 (by decide)
        have z1 := PV.out.2.1 (by decide)
        exact ⟨ret_i (by rw [hE.out, if_neg (by rw [z0]; decide), if_neg (by rw [z1]; decide), if_pos hz.out]), HR.out⟩
    · by_cases hz : E3 = 0
      · have hz' : (E3 != 0) = false := by simpa using hz
        have hz := hide hz
        obtain ⟨_, p0, p1, p2, p3⟩ := HP.out
        go_wp2_with fail
        clear p0 p1 p2 p3
        refine ((R3 (PV.out.2.1 (by decide)) (PV.out.2.2.1 (by decide)) _).out).mono ?_
        rintro e x1 ⟨rfl, hb⟩
        have HP := hide (HP.out.keep hb)
        have HR := hide (HR.out.trans (hb.mono HR.out.size))
        clear hb
        go_wp2_with fail
        go_roundw
        case rel => exact ⟨4, rfl, by omega, by omega, hide ⟨fun _ => PV.out.1 (by decide), fun _ => PV.out.2.1 (by decide), fun _ => PV.out.2.2.1 (by decide), fun _ => hz.out⟩, HP, HR⟩
        case measure => simp [intOf]
      · have hz' : (E3 != 0) = true := by simpa using hz
        have hz := hide hz
        obtain ⟨_, p0, p1, p2, p3⟩ := HP.out
        go_wp2_with fail
        clear p0 p1 p2 p3
        refine ((R3 (PV.out.2.1 (by decide)) (PV.out.2.2.1 (by decide)) _).out).mono ?_
        rintro e x1 ⟨rfl, hb⟩
        have HR := hide (HR.out.trans (hb.mono HR.out.size))
        clear hb
        go_wp2_with fail
        go_ret
        have z0 := PV.out.1 (by decide)
        have z1 := PV.out.2.1 (by decide)
        have z2 := PV.out.2.2.1 (by decide)
        exact ⟨ret_i (by rw [hE.out, if_neg (by rw [z0]; decide), if_neg (by rw [z1]; decide), if_neg (by rw [z2]; decide)]), HR.out⟩
    · go_wp2_with fail
      go_ret
      have z0 := PV.out.1 (by decide)
      have z1 := PV.out.2.1 (by decide)
      have z2 := PV.out.2.2.1 (by decide)
      have z3 := PV.out.2.2.2 (by decide)
      exact ⟨ret_i (by rw [hE.out, if_neg (by rw [z0]; decide), if_neg (by rw [z1]; decide), if_neg (by rw [z2]; decide), z3]), HR.out⟩

end Go.Proofs.YtjjaemobgfconaaDoor
