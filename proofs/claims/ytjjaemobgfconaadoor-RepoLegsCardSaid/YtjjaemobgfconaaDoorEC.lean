/-
  known.
-/
import Derived.Test.YtjjaemobgfconaaDoorE9
import Derived.WalkKit
import Derived.Deep.QuietTactic
import Derived.BigQuiet
import Derived.Laws.EntriesVeiled
import Derived.Lib.MinMax
import Derived.Deep.Light
namespace Go.Proofs.YtjjaemobgfconaaDoor
open Go.RowKit
set_option linter.unusedVariables false
set_option linter.unusedSimpArgs false
set_option linter.unnecessarySimpa false

def kA : Ag := (⟨⟨#[82, 49]⟩, ⟨#[66, 65, 78, 75, 65]⟩, ⟨#[66, 65, 78, 75, 66]⟩, ⟨#[85, 83, 48, 51, 55, 56, 51, 51, 49, 48, 48, 53]⟩, 10, 1000000, 1, 20, 100, 136⟩ : Ag)
def kB : Ag := (⟨⟨#[82, 50]⟩, ⟨#[66, 65, 78, 75, 65]⟩, ⟨#[66, 65, 78, 75, 66]⟩, ⟨#[85, 83, 48, 51, 55, 56, 51, 51, 49, 48, 48, 53]⟩, 10, 1005000, 1, 10, 136, 172⟩ : Ag)
theorem kA_ok : kA.Ok := ⟨by decide, by decide, by decide, by decide, by decide, by decide, by decide, by decide, by decide, by decide⟩
theorem kB_ok : kB.Ok := ⟨by decide, by decide, by decide, by decide, by decide, by decide, by decide, by decide, by decide, by decide⟩
theorem kA1 : reV kA = 1005000 ∧ agE kA = 0 := by decide +kernel
theorem kA2 : roE kA ⟨#[82, 50]⟩ 172 1 10 = 0 := by decide +kernel
theorem kA3 : roA kA ⟨#[82, 50]⟩ 172 1 10 = kB := by
  unfold roA
  rw [if_pos kA2]
  unfold nxA
  rw [kA1.1]
  rfl
theorem kB1 : inV kB 172 = 10050 ∧ inE kB 172 = 0 := by decide +kernel
set_option maxHeartbeats 4000000 in
set_option maxRecDepth 20000 in
theorem known_any (w : World) (S : Shp w) : Calls Tryd.prog 13 #[] w fun e w' => e = .returned (.bool true) ∧ Below w.heap.size w w' := by
  have S := hide S
  have RP : ∀ w, Shp w → Hid (Calls Tryd.prog 11 #[.agg #[.string ⟨#[82, 49]⟩, .string ⟨#[66, 65, 78, 75, 65]⟩, .string ⟨#[66, 65, 78, 75, 66]⟩, .string ⟨#[85, 83, 48, 51, 55, 56, 51, 51, 49, 48, 48, 53]⟩, .int .i64 10, .int .i64 1000000, .int .i64 1, .int .i64 20, .int .i64 100, .int .i64 136]] w fun e w' => e = .returned (.tuple #[.int .i64 1005000, .int .i64 0]) ∧ Below w.heap.size w w') := fun w S => hide (by have h := repay_any kA w S kA_ok; rw [kA1.1, kA1.2] at h; exact h)
  have RO : ∀ w, Shp w → Hid (Calls Tryd.prog 16 #[.agg #[.string ⟨#[82, 49]⟩, .string ⟨#[66, 65, 78, 75, 65]⟩, .string ⟨#[66, 65, 78, 75, 66]⟩, .string ⟨#[85, 83, 48, 51, 55, 56, 51, 51, 49, 48, 48, 53]⟩, .int .i64 10, .int .i64 1000000, .int .i64 1, .int .i64 20, .int .i64 100, .int .i64 136], .string ⟨#[82, 50]⟩, .int .i64 172, .agg #[.int .i64 1, .int .i64 10]] w fun e w' => e = .returned (.tuple #[.agg #[.string ⟨#[82, 50]⟩, .string ⟨#[66, 65, 78, 75, 65]⟩, .string ⟨#[66, 65, 78, 75, 66]⟩, .string ⟨#[85, 83, 48, 51, 55, 56, 51, 51, 49, 48, 48, 53]⟩, .int .i64 10, .int .i64 1005000, .int .i64 1, .int .i64 10, .int .i64 136, .int .i64 172], .int .i64 0]) ∧ Below w.heap.size w w') := fun w S => hide (by have h := roll_any kA ⟨#[82, 50]⟩ 172 1 10 w S kA_ok (by decide) (by decide) (by decide) (by decide); rw [kA2, kA3] at h; exact h)
  have IN : ∀ w, Shp w → Hid (Calls Tryd.prog 9 #[.agg #[.string ⟨#[82, 50]⟩, .string ⟨#[66, 65, 78, 75, 65]⟩, .string ⟨#[66, 65, 78, 75, 66]⟩, .string ⟨#[85, 83, 48, 51, 55, 56, 51, 51, 49, 48, 48, 53]⟩, .int .i64 10, .int .i64 1005000, .int .i64 1, .int .i64 10, .int .i64 136, .int .i64 172], .int .i64 172] w fun e w' => e = .returned (.tuple #[.int .i64 10050, .int .i64 0]) ∧ Below w.heap.size w w') := fun w S => hide (by have h := interest_any kB 172 w S kB_ok (by decide) (by decide); rw [kB1.1, kB1.2] at h; exact h)
  have HB := hide (RB.new kA w 28)
  have HR := hide (one_alloc w (Obj.cells #[.string ⟨#[82, 49]⟩, .string ⟨#[66, 65, 78, 75, 65]⟩, .string ⟨#[66, 65, 78, 75, 66]⟩, .string ⟨#[85, 83, 48, 51, 55, 56, 51, 51, 49, 48, 48, 53]⟩, .int .i64 10, .int .i64 1000000, .int .i64 1, .int .i64 20, .int .i64 100, .int .i64 136] 28))
  go_enter Tryd.func13, Tryd.ntmps13
  go_wp2_with fail
  have HB : Hid (RB w.heap.size kA (w.alloc (Obj.cells #[.string ⟨#[82, 49]⟩, .string ⟨#[66, 65, 78, 75, 65]⟩, .string ⟨#[66, 65, 78, 75, 66]⟩, .string ⟨#[85, 83, 48, 51, 55, 56, 51, 51, 49, 48, 48, 53]⟩, .int .i64 10, .int .i64 1000000, .int .i64 1, .int .i64 20, .int .i64 100, .int .i64 136] 28))) := HB
  generalize w.alloc (Obj.cells #[.string ⟨#[82, 49]⟩, .string ⟨#[66, 65, 78, 75, 65]⟩, .string ⟨#[66, 65, 78, 75, 66]⟩, .string ⟨#[85, 83, 48, 51, 55, 56, 51, 51, 49, 48, 48, 53]⟩, .int .i64 10, .int .i64 1000000, .int .i64 1, .int .i64 20, .int .i64 100, .int .i64 136] 28) = X at *
  refine ((RP _ (S.out.keep HR.out)).out).mono ?_
  rintro e x1 ⟨rfl, hb⟩
  have HB := hide (HB.out.keep hb)
  have HR := hide (HR.out.trans (hb.mono HR.out.size))
  clear hb
  obtain ⟨_, c0, c1, c2, c3, c4, c5, c6, c7, c8, c9⟩ := HB.out
  dsimp only [kA] at c0 c1 c2 c3 c4 c5 c6 c7 c8 c9
  go_wp2_with fail
  refine ((RO _ (S.out.keep HR.out)).out).mono ?_
  rintro e x2 ⟨rfl, hb⟩
  have HR := hide (HR.out.trans (hb.mono HR.out.size))
  clear hb HB c0 c1 c2 c3 c4 c5 c6 c7 c8 c9
  have HR3 := hide (HR.out.trans ((one_alloc x2 (Obj.cells #[.string ⟨#[82, 50]⟩, .string ⟨#[66, 65, 78, 75, 65]⟩, .string ⟨#[66, 65, 78, 75, 66]⟩, .string ⟨#[85, 83, 48, 51, 55, 56, 51, 51, 49, 48, 48, 53]⟩, .int .i64 10, .int .i64 1005000, .int .i64 1, .int .i64 10, .int .i64 136, .int .i64 172] 28)).mono HR.out.size))
  have HC : Hid (RB x2.heap.size kB (x2.alloc (Obj.cells #[.string ⟨#[82, 50]⟩, .string ⟨#[66, 65, 78, 75, 65]⟩, .string ⟨#[66, 65, 78, 75, 66]⟩, .string ⟨#[85, 83, 48, 51, 55, 56, 51, 51, 49, 48, 48, 53]⟩, .int .i64 10, .int .i64 1005000, .int .i64 1, .int .i64 10, .int .i64 136, .int .i64 172] 28))) := hide (RB.new kB x2 28)
  go_wp2_with fail
  generalize x2.alloc (Obj.cells #[.string ⟨#[82, 50]⟩, .string ⟨#[66, 65, 78, 75, 65]⟩, .string ⟨#[66, 65, 78, 75, 66]⟩, .string ⟨#[85, 83, 48, 51, 55, 56, 51, 51, 49, 48, 48, 53]⟩, .int .i64 10, .int .i64 1005000, .int .i64 1, .int .i64 10, .int .i64 136, .int .i64 172] 28) = x3 at *
  refine ((IN _ (S.out.keep HR3.out)).out).mono ?_
  rintro e x4 ⟨rfl, hb⟩
  have HC := hide (HC.out.keep hb)
  have HR := hide (HR3.out.trans (hb.mono HR3.out.size))
  clear hb
  obtain ⟨_, c0, c1, c2, c3, c4, c5, c6, c7, c8, c9⟩ := HC.out
  dsimp only [kB] at c0 c1 c2 c3 c4 c5 c6 c7 c8 c9
  go_wp2_with fail
  go_ret
  exact ⟨rfl, HR.out⟩

end Go.Proofs.YtjjaemobgfconaaDoor
