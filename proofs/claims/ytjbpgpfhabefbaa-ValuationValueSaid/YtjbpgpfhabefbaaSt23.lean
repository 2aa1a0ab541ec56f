/-
  A fraction as an argument: its form and its reading.
-/
import Derived.Test.YtjbpgpfhabefbaaRows
import Derived.WalkKit
import Derived.ProofKit
import Derived.OpenShut
import Derived.Deep.Strs
namespace Go.Proofs.Ytjbpgpfhabefbaa
open Go.ChangeShapes Go.WideShapes Go.ChangeAt Go.RowKit
theorem cells23 : Try.prog.cellsOf 23 = 2 := by kernel_rfl
theorem cells2 : Try.prog.cellsOf 2 = 1 := by kernel_rfl
set_option maxRecDepth 20000 in
theorem open23 {H : Type} {enc : TypeId × Value → H} {w : World} {base : Nat} {sp : Nat → Bool} {held : Bool} {r : Reach} {b0 : Nat} {v : Value} {d : DataW H} {ps : List MemPlace}
    (hval : Value.okWide Try.prog w r b0 23 v) (hd : DataW.Trod enc Try.prog w base sp held 23 v d ps) :
    ∃ a b, v = .agg #[.int .i64 a, .int .i64 b] ∧ d = .agg [.lit (.int .i64 a), .lit (.int .i64 b)] ∧ ps = [] ∧ (Lit.int .i64 a).wf = true ∧ (Lit.int .i64 b).wf = true := by
  obtain ⟨cs, rfl, hsz⟩ := okWide_struct Try.underlying23 hval
  rw [cells23] at hsz
  obtain ⟨l⟩ := cs
  match l, hsz with
  | [c0, c1], _ =>
  obtain ⟨fuel, hf⟩ := hd
  obtain ⟨y0, y1, m, hx, _, hy0, hy1⟩ := trod_struct2 Try.underlying23 hf
  obtain ⟨a, e0, rfl, wa⟩ := DataW.trod_int Try.underlying2 hy0
  obtain ⟨b, e1, rfl, wb⟩ := DataW.trod_int Try.underlying2 hy1
  simp [Value.cells, cells2] at e0 e1
  subst e0 e1
  simp only [Prod.mk.injEq] at hx
  obtain ⟨rfl, rfl⟩ := hx
  exact ⟨a, b, rfl, rfl, by simp, wa, wb⟩
set_option maxRecDepth 20000 in
theorem shut23 {H : Type} {enc : TypeId × Value → H} {w : World} {base : Nat} {sp : Nat → Bool} {held : Bool} {a b : Int} (wa : (Lit.int .i64 a).wf = true) (wb : (Lit.int .i64 b).wf = true) :
    DataW.Trod enc Try.prog w base sp held 23 (.agg #[.int .i64 a, .int .i64 b]) (.agg [.lit (.int .i64 a), .lit (.int .i64 b)]) [] := ⟨2, by
  have f0 : DataW.trod enc Try.prog w base sp held 1 2 [.int .i64 a] = some (.lit (.int .i64 a), []) := by simp [DataW.trod, Try.underlying2, wa]
  have f1 : DataW.trod enc Try.prog w base sp held 1 2 [.int .i64 b] = some (.lit (.int .i64 b), []) := by simp [DataW.trod, Try.underlying2, wb]
  have := trod_struct2_mk (enc := enc) (w := w) (base := base) (spare := sp) (held := held) (n := 1) (cs := [.int .i64 a, .int .i64 b]) Try.underlying23 (by simp [cells23]) (by simpa [cells2] using f0) (by simpa [cells2] using f1)
  simpa [Value.cells] using this⟩
end Go.Proofs.Ytjbpgpfhabefbaa
