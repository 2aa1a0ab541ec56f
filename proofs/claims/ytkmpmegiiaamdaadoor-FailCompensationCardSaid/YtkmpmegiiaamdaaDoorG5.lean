/-
  The example of the chapter (the statements' 'known') at this translation, in every world.
-/
import Derived.Test.YtkmpmegiiaamdaaDoorG2
import Derived.Test.YtkmpmegiiaamdaaDoorG3
import Derived.Test.YtkmpmegiiaamdaaDoorAm5
import Derived.Test.YtkmpmegiiaamdaaDoorDiv
namespace Go.Proofs.YtkmpmegiiaamdaaDoor
open Go.RowKit
set_option linter.unusedVariables false
set_option linter.unusedSimpArgs false
set_option linter.unnecessarySimpa false

theorem divfor (x num den : Int) (h : den < 18446744073709551616) : DivFor x num den := fun hl => by
  have p : 0 ≤ absP x num := by unfold absP; exact Int.mul_nonneg (Int.natCast_nonneg _) (Int.natCast_nonneg _)
  exact div_any _ _ _ (Int.ediv_nonneg p (by decide)) hl h (Int.emod_nonneg _ (by decide)) (Int.emod_lt_of_pos _ (by decide))
theorem md_any (x num den mode : Int) (w : World) (h : den ≤ 9223372036854775807) :
    Calls Tryd.prog 31 #[.int .i64 x, .int .i64 num, .int .i64 den, .int .i64 mode] w fun e w' => e = .returned (.tuple #[.int .i64 (mdV x num den mode), .int .i64 (mdE x num den mode)]) ∧ Below w.heap.size w w' :=
  muldiv_any x num den mode w (divfor x num den (by omega))
def kC : Cs := ⟨⟨#[68, 49]⟩, ⟨#[66, 65, 78, 75, 65]⟩, ⟨#[66, 65, 78, 75, 66]⟩, ⟨#[85, 83, 48, 51, 55, 56, 51, 51, 49, 48, 48, 53]⟩, 10, 3600000, 9811, 0⟩
theorem kOk : kC.Ok := ⟨by decide, by decide, by decide, by decide, by decide, by decide, by decide, by decide⟩
theorem kE : cE kC = 0 := by kernel_rfl
theorem kRt : (rtB 1 100 && rtB 0 1) = true := by kernel_rfl
theorem kMV : mdV 3600000 1 36000 2 = 100 := by kernel_rfl
theorem kME : mdE 3600000 1 36000 2 = 0 := by kernel_rfl
theorem kCh (x : Int) : chC kC x = ⟨⟨#[68, 49]⟩, ⟨#[66, 65, 78, 75, 65]⟩, ⟨#[66, 65, 78, 75, 66]⟩, x⟩ := rfl
theorem k_check (w : World) (S : Shp w) : Calls Tryd.prog 8 #[.agg #[.string ⟨#[68, 49]⟩, .string ⟨#[66, 65, 78, 75, 65]⟩, .string ⟨#[66, 65, 78, 75, 66]⟩, .string ⟨#[85, 83, 48, 51, 55, 56, 51, 51, 49, 48, 48, 53]⟩, .int .i64 10, .int .i64 3600000, .int .i64 9811, .int .i64 0]] w fun e w' => e = .returned (.int .i64 0) ∧ Below w.heap.size w w' := by
  have h := ccheck_any kC w S kOk
  rw [kE] at h
  exact h
theorem k_rates (w : World) : Calls Tryd.prog 30 #[.agg #[.int .i64 1, .int .i64 100, .int .i64 0, .int .i64 1]] w fun e w' => e = .returned (.bool true) ∧ Below w.heap.size w w' := by
  have h := rates_any 1 100 0 1 w ⟨by decide, by decide, by decide, by decide⟩
  rw [kRt] at h
  exact h
theorem k_md (w : World) : Calls Tryd.prog 31 #[.int .i64 3600000, .int .i64 1, .int .i64 36000, .int .i64 2] w fun e w' => e = .returned (.tuple #[.int .i64 100, .int .i64 0]) ∧ Below w.heap.size w w' := by
  have h := md_any 3600000 1 36000 2 w (by decide)
  rw [kMV, kME] at h
  exact h
theorem k_charge (x : Int) (w : World) : Calls Tryd.prog 32 #[.agg #[.string ⟨#[68, 49]⟩, .string ⟨#[66, 65, 78, 75, 65]⟩, .string ⟨#[66, 65, 78, 75, 66]⟩, .string ⟨#[85, 83, 48, 51, 55, 56, 51, 51, 49, 48, 48, 53]⟩, .int .i64 10, .int .i64 3600000, .int .i64 9811, .int .i64 0], .int .i64 x] w fun e w' => e = .returned (.agg #[.string ⟨#[68, 49]⟩, .string ⟨#[66, 65, 78, 75, 65]⟩, .string ⟨#[66, 65, 78, 75, 66]⟩, .int .i64 x]) ∧ Below w.heap.size w w' := by
  have h := charge_any kC x w
  rw [kCh] at h
  exact h
theorem k_am (w : World) : Calls Tryd.prog 23 #[.int .i64 1000] w fun e w' => e = .returned (.bool true) ∧ w = w' := am_any 1000 w
set_option maxHeartbeats 8000000 in
set_option maxRecDepth 20000 in
theorem k_pen (w : World) (S : Shp w) : Calls Tryd.prog 11 #[.agg #[.string ⟨#[68, 49]⟩, .string ⟨#[66, 65, 78, 75, 65]⟩, .string ⟨#[66, 65, 78, 75, 66]⟩, .string ⟨#[85, 83, 48, 51, 55, 56, 51, 51, 49, 48, 48, 53]⟩, .int .i64 10, .int .i64 3600000, .int .i64 9811, .int .i64 0], .agg #[.int .i64 1, .int .i64 100, .int .i64 0, .int .i64 1]] w fun e w' => e = .returned (.tuple #[.agg #[.string ⟨#[68, 49]⟩, .string ⟨#[66, 65, 78, 75, 65]⟩, .string ⟨#[66, 65, 78, 75, 66]⟩, .int .i64 100], .int .i64 0]) ∧ Below w.heap.size w w' := by
  have S := hide S
  have CK := fun w S => hide (k_check w S)
  have RT := fun w => hide (k_rates w)
  have MD := fun w => hide (k_md w)
  have CH := fun x w => hide (k_charge x w)
  have HW : Hid (Below w.heap.size w (((w.alloc (Obj.cells #[.string ⟨#[68, 49]⟩, .string ⟨#[66, 65, 78, 75, 65]⟩, .string ⟨#[66, 65, 78, 75, 66]⟩, .string ⟨#[85, 83, 48, 51, 55, 56, 51, 51, 49, 48, 48, 53]⟩, .int .i64 10, .int .i64 3600000, .int .i64 9811, .int .i64 0] 25)).alloc (Obj.cells #[.int .i64 1, .int .i64 100, .int .i64 0, .int .i64 1] 41)).alloc (Obj.cells #[.string ⟨#[]⟩, .string ⟨#[]⟩, .string ⟨#[]⟩, .int .i64 0] 36)) ∧ TB w.heap.size kC (((w.alloc (Obj.cells #[.string ⟨#[68, 49]⟩, .string ⟨#[66, 65, 78, 75, 65]⟩, .string ⟨#[66, 65, 78, 75, 66]⟩, .string ⟨#[85, 83, 48, 51, 55, 56, 51, 51, 49, 48, 48, 53]⟩, .int .i64 10, .int .i64 3600000, .int .i64 9811, .int .i64 0] 25)).alloc (Obj.cells #[.int .i64 1, .int .i64 100, .int .i64 0, .int .i64 1] 41)).alloc (Obj.cells #[.string ⟨#[]⟩, .string ⟨#[]⟩, .string ⟨#[]⟩, .int .i64 0] 36)) ∧ Q4 (w.heap.size + 1) 1 100 0 1 (((w.alloc (Obj.cells #[.string ⟨#[68, 49]⟩, .string ⟨#[66, 65, 78, 75, 65]⟩, .string ⟨#[66, 65, 78, 75, 66]⟩, .string ⟨#[85, 83, 48, 51, 55, 56, 51, 51, 49, 48, 48, 53]⟩, .int .i64 10, .int .i64 3600000, .int .i64 9811, .int .i64 0] 25)).alloc (Obj.cells #[.int .i64 1, .int .i64 100, .int .i64 0, .int .i64 1] 41)).alloc (Obj.cells #[.string ⟨#[]⟩, .string ⟨#[]⟩, .string ⟨#[]⟩, .int .i64 0] 36)) ∧ CB (w.heap.size + 1 + 1) zC (((w.alloc (Obj.cells #[.string ⟨#[68, 49]⟩, .string ⟨#[66, 65, 78, 75, 65]⟩, .string ⟨#[66, 65, 78, 75, 66]⟩, .string ⟨#[85, 83, 48, 51, 55, 56, 51, 51, 49, 48, 48, 53]⟩, .int .i64 10, .int .i64 3600000, .int .i64 9811, .int .i64 0] 25)).alloc (Obj.cells #[.int .i64 1, .int .i64 100, .int .i64 0, .int .i64 1] 41)).alloc (Obj.cells #[.string ⟨#[]⟩, .string ⟨#[]⟩, .string ⟨#[]⟩, .int .i64 0] 36))) := by
    have s4 : (w.alloc (Obj.cells #[.string ⟨#[68, 49]⟩, .string ⟨#[66, 65, 78, 75, 65]⟩, .string ⟨#[66, 65, 78, 75, 66]⟩, .string ⟨#[85, 83, 48, 51, 55, 56, 51, 51, 49, 48, 48, 53]⟩, .int .i64 10, .int .i64 3600000, .int .i64 9811, .int .i64 0] 25)).heap.size = w.heap.size + 1 := by simp
    have s5 : ((w.alloc (Obj.cells #[.string ⟨#[68, 49]⟩, .string ⟨#[66, 65, 78, 75, 65]⟩, .string ⟨#[66, 65, 78, 75, 66]⟩, .string ⟨#[85, 83, 48, 51, 55, 56, 51, 51, 49, 48, 48, 53]⟩, .int .i64 10, .int .i64 3600000, .int .i64 9811, .int .i64 0] 25)).alloc (Obj.cells #[.int .i64 1, .int .i64 100, .int .i64 0, .int .i64 1] 41)).heap.size = w.heap.size + 1 + 1 := by simp
    have H3 := (Q4.new 1 100 0 1 (w.alloc (Obj.cells #[.string ⟨#[68, 49]⟩, .string ⟨#[66, 65, 78, 75, 65]⟩, .string ⟨#[66, 65, 78, 75, 66]⟩, .string ⟨#[85, 83, 48, 51, 55, 56, 51, 51, 49, 48, 48, 53]⟩, .int .i64 10, .int .i64 3600000, .int .i64 9811, .int .i64 0] 25)) 41).keep (one_alloc _ (Obj.cells #[.string ⟨#[]⟩, .string ⟨#[]⟩, .string ⟨#[]⟩, .int .i64 0] 36))
    have H4 := CB.new zC ((w.alloc (Obj.cells #[.string ⟨#[68, 49]⟩, .string ⟨#[66, 65, 78, 75, 65]⟩, .string ⟨#[66, 65, 78, 75, 66]⟩, .string ⟨#[85, 83, 48, 51, 55, 56, 51, 51, 49, 48, 48, 53]⟩, .int .i64 10, .int .i64 3600000, .int .i64 9811, .int .i64 0] 25)).alloc (Obj.cells #[.int .i64 1, .int .i64 100, .int .i64 0, .int .i64 1] 41)) 36
    rw [s4] at H3
    rw [s5] at H4
    have HB : TB w.heap.size kC (w.alloc (Obj.cells #[.string ⟨#[68, 49]⟩, .string ⟨#[66, 65, 78, 75, 65]⟩, .string ⟨#[66, 65, 78, 75, 66]⟩, .string ⟨#[85, 83, 48, 51, 55, 56, 51, 51, 49, 48, 48, 53]⟩, .int .i64 10, .int .i64 3600000, .int .i64 9811, .int .i64 0] 25)) := TB.new kC w 25
    exact ⟨((one_alloc w (Obj.cells #[.string ⟨#[68, 49]⟩, .string ⟨#[66, 65, 78, 75, 65]⟩, .string ⟨#[66, 65, 78, 75, 66]⟩, .string ⟨#[85, 83, 48, 51, 55, 56, 51, 51, 49, 48, 48, 53]⟩, .int .i64 10, .int .i64 3600000, .int .i64 9811, .int .i64 0] 25)).alloc (by simp) (Obj.cells #[.int .i64 1, .int .i64 100, .int .i64 0, .int .i64 1] 41)).alloc (by simp; omega) (Obj.cells #[.string ⟨#[]⟩, .string ⟨#[]⟩, .string ⟨#[]⟩, .int .i64 0] 36), (HB.keep (one_alloc _ (Obj.cells #[.int .i64 1, .int .i64 100, .int .i64 0, .int .i64 1] 41))).keep (one_alloc _ (Obj.cells #[.string ⟨#[]⟩, .string ⟨#[]⟩, .string ⟨#[]⟩, .int .i64 0] 36)), H3, H4⟩
  have HR := hide HW.out.1
  have HB := hide HW.out.2.1
  have H3 := hide HW.out.2.2.1
  have H4 := hide HW.out.2.2.2
  clear HW
  go_enter Tryd.func11, Tryd.ntmps11
  obtain ⟨_, c0, c1, c2, c3, c4, c5, c6, c7⟩ := HB.out
  dsimp only [kC] at c0 c1 c2 c3 c4 c5 c6 c7
  go_wp2_with fail
  refine ((CK _ (S.out.keep HR.out)).out).mono ?_
  rintro e x1 ⟨rfl, hb⟩
  have HB := hide (HB.out.keep hb)
  have H3 := hide (H3.out.keep hb)
  have H4 := hide (H4.out.keep hb)
  have HR := hide (HR.out.trans (hb.mono HR.out.size))
  clear hb
  clear c0 c1 c2 c3 c4 c5 c6 c7
  obtain ⟨_, p0, p1, p2, p3⟩ := H3.out
  go_wp2_with fail
  refine ((RT _).out).mono ?_
  rintro e x2 ⟨rfl, hb⟩
  have HB := hide (HB.out.keep hb)
  have H3 := hide (H3.out.keep hb)
  have H4 := hide (H4.out.keep hb)
  have HR := hide (HR.out.trans (hb.mono HR.out.size))
  clear hb
  clear p0 p1 p2 p3
  have hb := one_alloc x2 (Obj.cells #[.int .i64 1, .int .i64 100] 39)
  obtain ⟨_, p0, p1, p2, p3⟩ := H3.out
  have q0 : ∀ o, (x2.alloc o).cell? ⟨w.heap.size, 5, none⟩ = some (.int .i64 3600000) := fun o => (HB.out.keep (one_alloc x2 o)).c5
  have q1 : ∀ o, (x2.alloc o).cell? ⟨w.heap.size, 7, none⟩ = some (.int .i64 0) := fun o => (HB.out.keep (one_alloc x2 o)).c7
  go_wp2_with fail
  clear p0 p1 p2 p3 q0 q1
  have HB := hide (HB.out.keep hb)
  have H4 := hide (H4.out.keep hb)
  have HR := hide (HR.out.trans (hb.mono HR.out.size))
  clear hb
  generalize x2.alloc (Obj.cells #[.int .i64 1, .int .i64 100] 39) = X at *
  refine ((MD _).out).mono ?_
  rintro e x3 ⟨rfl, hb⟩
  have HB := hide (HB.out.keep hb)
  have H4 := hide (H4.out.keep hb)
  have HR := hide (HR.out.trans (hb.mono HR.out.size))
  clear hb
  obtain ⟨_, c0, c1, c2, c3, c4, c5, c6, c7⟩ := HB.out
  dsimp only [kC] at c0 c1 c2 c3 c4 c5 c6 c7
  go_wp2_with fail
  refine ((CH _ _).out).mono ?_
  rintro e x4 ⟨rfl, hb⟩
  have H4 := hide (H4.out.keep hb)
  have HR := hide (HR.out.trans (hb.mono HR.out.size))
  clear hb
  clear c0 c1 c2 c3 c4 c5 c6 c7
  obtain ⟨_, f0, f1, f2, f3, zf⟩ := H4.out
  dsimp only [zC] at f0 f1 f2 f3
  go_wp2_with fail
  exact bodyPost_ret (v := .tuple #[.agg #[.string ⟨#[68, 49]⟩, .string ⟨#[66, 65, 78, 75, 65]⟩, .string ⟨#[66, 65, 78, 75, 66]⟩, .int .i64 100], .int .i64 0]) (by simp [results, Tryd.results11, go_sem, f0, f1, f2, f3, zf]) rfl ⟨rfl, ((((HR.out.setCell (by simp; try omega) _).setCell (by simp; try omega) _).setCell (by simp; try omega) _).setCell (by simp; try omega) _)⟩
set_option maxHeartbeats 8000000 in
set_option maxRecDepth 20000 in
theorem k_comp (w : World) (S : Shp w) : Calls Tryd.prog 14 #[.agg #[.string ⟨#[68, 49]⟩, .string ⟨#[66, 65, 78, 75, 65]⟩, .string ⟨#[66, 65, 78, 75, 66]⟩, .string ⟨#[85, 83, 48, 51, 55, 56, 51, 51, 49, 48, 48, 53]⟩, .int .i64 10, .int .i64 3600000, .int .i64 9811, .int .i64 0], .int .i64 1000, .int .i64 120] w fun e w' => e = .returned (.tuple #[.agg #[.string ⟨#[68, 49]⟩, .string ⟨#[66, 65, 78, 75, 65]⟩, .string ⟨#[66, 65, 78, 75, 66]⟩, .int .i64 200], .int .i64 0]) ∧ Below w.heap.size w w' := by
  have S := hide S
  have CK := fun w S => hide (k_check w S)
  have CH := fun x w => hide (k_charge x w)
  have AM := fun w => hide (k_am w)
  have HR := hide (two_allocs w (Obj.cells #[.string ⟨#[68, 49]⟩, .string ⟨#[66, 65, 78, 75, 65]⟩, .string ⟨#[66, 65, 78, 75, 66]⟩, .string ⟨#[85, 83, 48, 51, 55, 56, 51, 51, 49, 48, 48, 53]⟩, .int .i64 10, .int .i64 3600000, .int .i64 9811, .int .i64 0] 25) (Obj.cells #[.string ⟨#[]⟩, .string ⟨#[]⟩, .string ⟨#[]⟩, .int .i64 0] 36))
  have HB : Hid (TB w.heap.size kC ((w.alloc (Obj.cells #[.string ⟨#[68, 49]⟩, .string ⟨#[66, 65, 78, 75, 65]⟩, .string ⟨#[66, 65, 78, 75, 66]⟩, .string ⟨#[85, 83, 48, 51, 55, 56, 51, 51, 49, 48, 48, 53]⟩, .int .i64 10, .int .i64 3600000, .int .i64 9811, .int .i64 0] 25)).alloc (Obj.cells #[.string ⟨#[]⟩, .string ⟨#[]⟩, .string ⟨#[]⟩, .int .i64 0] 36))) := hide ((TB.new kC w 25).keep (one_alloc _ (Obj.cells #[.string ⟨#[]⟩, .string ⟨#[]⟩, .string ⟨#[]⟩, .int .i64 0] 36)))
  have s4 : (w.alloc (Obj.cells #[.string ⟨#[68, 49]⟩, .string ⟨#[66, 65, 78, 75, 65]⟩, .string ⟨#[66, 65, 78, 75, 66]⟩, .string ⟨#[85, 83, 48, 51, 55, 56, 51, 51, 49, 48, 48, 53]⟩, .int .i64 10, .int .i64 3600000, .int .i64 9811, .int .i64 0] 25)).heap.size = w.heap.size + 1 := by simp
  have H4 := hide (CB.new zC (w.alloc (Obj.cells #[.string ⟨#[68, 49]⟩, .string ⟨#[66, 65, 78, 75, 65]⟩, .string ⟨#[66, 65, 78, 75, 66]⟩, .string ⟨#[85, 83, 48, 51, 55, 56, 51, 51, 49, 48, 48, 53]⟩, .int .i64 10, .int .i64 3600000, .int .i64 9811, .int .i64 0] 25)) 36)
  rw [s4] at H4
  clear s4
  have H4 : Hid (CB (w.heap.size + 1) zC ((w.alloc (Obj.cells #[.string ⟨#[68, 49]⟩, .string ⟨#[66, 65, 78, 75, 65]⟩, .string ⟨#[66, 65, 78, 75, 66]⟩, .string ⟨#[85, 83, 48, 51, 55, 56, 51, 51, 49, 48, 48, 53]⟩, .int .i64 10, .int .i64 3600000, .int .i64 9811, .int .i64 0] 25)).alloc (Obj.cells #[.string ⟨#[]⟩, .string ⟨#[]⟩, .string ⟨#[]⟩, .int .i64 0] 36))) := H4
  go_enter Tryd.func14, Tryd.ntmps14
  obtain ⟨_, c0, c1, c2, c3, c4, c5, c6, c7⟩ := HB.out
  dsimp only [kC] at c0 c1 c2 c3 c4 c5 c6 c7
  go_wp2_with fail
  refine ((CK _ (S.out.keep HR.out)).out).mono ?_
  rintro e x1 ⟨rfl, hb⟩
  have HB := hide (HB.out.keep hb)
  have H4 := hide (H4.out.keep hb)
  have HR := hide (HR.out.trans (hb.mono HR.out.size))
  clear hb
  clear c0 c1 c2 c3 c4 c5 c6 c7
  go_wp2_with fail
  refine ((AM _).out).mono ?_
  rintro e x2 ⟨rfl, rfl⟩
  obtain ⟨_, c0, c1, c2, c3, c4, c5, c6, c7⟩ := HB.out
  dsimp only [kC] at c0 c1 c2 c3 c4 c5 c6 c7
  go_wp2_with fail
  go_region
  clear c0 c1 c2 c3 c4 c5 c6 c7
  have hb : Below x1.heap.size x1 x1.drew := (Below.refl _ _).drew
  have HB := hide (HB.out.keep hb)
  have H4 := hide (H4.out.keep hb)
  have HR := hide (HR.out.trans (hb.mono HR.out.size))
  clear hb
  generalize x1.drew = x3 at *
  obtain ⟨_, c0, c1, c2, c3, c4, c5, c6, c7⟩ := HB.out
  dsimp only [kC] at c0 c1 c2 c3 c4 c5 c6 c7
  go_wp2_with fail
  refine ((CH _ _).out).mono ?_
  rintro e x4 ⟨rfl, hb⟩
  have H4 := hide (H4.out.keep hb)
  have HR := hide (HR.out.trans (hb.mono HR.out.size))
  clear hb
  clear c0 c1 c2 c3 c4 c5 c6 c7
  obtain ⟨_, f0, f1, f2, f3, zf⟩ := H4.out
  dsimp only [zC] at f0 f1 f2 f3
  go_wp2_with fail
  exact bodyPost_ret (v := .tuple #[.agg #[.string ⟨#[68, 49]⟩, .string ⟨#[66, 65, 78, 75, 65]⟩, .string ⟨#[66, 65, 78, 75, 66]⟩, .int .i64 200], .int .i64 0]) (by simp [results, Tryd.results14, go_sem, f0, f1, f2, f3, zf]; decide) rfl ⟨rfl, ((((HR.out.setCell (by simp; try omega) _).setCell (by simp; try omega) _).setCell (by simp; try omega) _).setCell (by simp; try omega) _)⟩
/-- Two charges, held against each other. -/
theorem eq36 (x : Int) (w : World) : (binOp .eql 36 (.agg #[.string ⟨#[68, 49]⟩, .string ⟨#[66, 65, 78, 75, 65]⟩, .string ⟨#[66, 65, 78, 75, 66]⟩, .int .i64 x]) (.agg #[.string ⟨#[68, 49]⟩, .string ⟨#[66, 65, 78, 75, 65]⟩, .string ⟨#[66, 65, 78, 75, 66]⟩, .int .i64 x])).run Tryd.prog w = .ok (.bool true) w := by
  have hS : Tryd.prog.underlying 36 = some (.struct (Tryd.prog.fieldsOf 36)) := by kernel_rfl
  have hp : Tryd.prog.stoodInHeld 36 = false := by kernel_rfl
  have u9 := Tryd.underlying9
  have u2 := Tryd.underlying2
  rw [run_eql_struct, show (10000 : Nat) = 9999 + 1 from rfl, run_equalIn_agg w 9999 36 _ _ hS hp]
  simp only [Program.fieldsOf, Tryd.underlying36]
  go_simp
set_option maxHeartbeats 8000000 in
set_option maxRecDepth 20000 in
theorem known_any (w : World) (S : Shp w) : Calls Tryd.prog 10 #[] w fun e w' => e = .returned (.bool true) ∧ Below w.heap.size w w' := by
  have S := hide S
  have PN := fun w S => hide (k_pen w S)
  have CO := fun w S => hide (k_comp w S)
  have EQ := fun w => eq36 100 w
  have HR := hide (two_allocs w (Obj.cells #[.string ⟨#[68, 49]⟩, .string ⟨#[66, 65, 78, 75, 65]⟩, .string ⟨#[66, 65, 78, 75, 66]⟩, .string ⟨#[85, 83, 48, 51, 55, 56, 51, 51, 49, 48, 48, 53]⟩, .int .i64 10, .int .i64 3600000, .int .i64 9811, .int .i64 0] 25) (Obj.cells #[.int .i64 1, .int .i64 100, .int .i64 0, .int .i64 1] 41))
  have HB : Hid (TB w.heap.size kC ((w.alloc (Obj.cells #[.string ⟨#[68, 49]⟩, .string ⟨#[66, 65, 78, 75, 65]⟩, .string ⟨#[66, 65, 78, 75, 66]⟩, .string ⟨#[85, 83, 48, 51, 55, 56, 51, 51, 49, 48, 48, 53]⟩, .int .i64 10, .int .i64 3600000, .int .i64 9811, .int .i64 0] 25)).alloc (Obj.cells #[.int .i64 1, .int .i64 100, .int .i64 0, .int .i64 1] 41))) := hide ((TB.new kC w 25).keep (one_alloc _ (Obj.cells #[.int .i64 1, .int .i64 100, .int .i64 0, .int .i64 1] 41)))
  go_enter Tryd.func10, Tryd.ntmps10
  obtain ⟨_, c0, c1, c2, c3, c4, c5, c6, c7⟩ := HB.out
  dsimp only [kC] at c0 c1 c2 c3 c4 c5 c6 c7
  go_wp2_with fail
  refine ((PN _ (S.out.keep HR.out)).out).mono ?_
  rintro e x1 ⟨rfl, hb⟩
  have HB := hide (HB.out.keep hb)
  have HR := hide (HR.out.trans (hb.mono HR.out.size))
  clear hb
  clear c0 c1 c2 c3 c4 c5 c6 c7
  have HX := hide (CB.new ⟨⟨#[68, 49]⟩, ⟨#[66, 65, 78, 75, 65]⟩, ⟨#[66, 65, 78, 75, 66]⟩, 100⟩ x1 36)
  have hb := one_alloc x1 (Obj.cells #[.string ⟨#[68, 49]⟩, .string ⟨#[66, 65, 78, 75, 65]⟩, .string ⟨#[66, 65, 78, 75, 66]⟩, .int .i64 100] 36)
  have HB := hide (HB.out.keep hb)
  have HR := hide (HR.out.trans (hb.mono HR.out.size))
  clear hb
  have HX : Hid (CB x1.heap.size ⟨⟨#[68, 49]⟩, ⟨#[66, 65, 78, 75, 65]⟩, ⟨#[66, 65, 78, 75, 66]⟩, 100⟩ (x1.alloc (Obj.cells #[.string ⟨#[68, 49]⟩, .string ⟨#[66, 65, 78, 75, 65]⟩, .string ⟨#[66, 65, 78, 75, 66]⟩, .int .i64 100] 36))) := HX
  obtain ⟨_, c0, c1, c2, c3, c4, c5, c6, c7⟩ := HB.out
  dsimp only [kC] at c0 c1 c2 c3 c4 c5 c6 c7
  go_wp2_with fail
  clear c0 c1 c2 c3 c4 c5 c6 c7
  generalize x1.alloc (Obj.cells #[.string ⟨#[68, 49]⟩, .string ⟨#[66, 65, 78, 75, 65]⟩, .string ⟨#[66, 65, 78, 75, 66]⟩, .int .i64 100] 36) = X at *
  generalize x1.heap.size = p at *
  refine ((CO _ (S.out.keep HR.out)).out).mono ?_
  rintro e x2 ⟨rfl, hb⟩
  have HX := hide (HX.out.keep hb)
  have HR := hide (HR.out.trans (hb.mono HR.out.size))
  clear hb HB
  have hb := one_alloc x2 (Obj.cells #[.string ⟨#[68, 49]⟩, .string ⟨#[66, 65, 78, 75, 65]⟩, .string ⟨#[66, 65, 78, 75, 66]⟩, .int .i64 200] 36)
  have HR := hide (HR.out.trans (hb.mono HR.out.size))
  clear hb
  have q0 : ∀ o, (x2.alloc o).cell? ⟨p, 0, none⟩ = some (.string ⟨#[68, 49]⟩) := fun o => (HX.out.keep (one_alloc x2 o)).c0
  have q1 : ∀ o, (x2.alloc o).cell? ⟨p, 1, none⟩ = some (.string ⟨#[66, 65, 78, 75, 65]⟩) := fun o => (HX.out.keep (one_alloc x2 o)).c1
  have q2 : ∀ o, (x2.alloc o).cell? ⟨p, 2, none⟩ = some (.string ⟨#[66, 65, 78, 75, 66]⟩) := fun o => (HX.out.keep (one_alloc x2 o)).c2
  have q3 : ∀ o, (x2.alloc o).cell? ⟨p, 3, none⟩ = some (.int .i64 100) := fun o => (HX.out.keep (one_alloc x2 o)).c3
  go_wp2_with fail
  go_ret
  exact ⟨rfl, HR.out⟩
end Go.Proofs.YtkmpmegiiaamdaaDoor
