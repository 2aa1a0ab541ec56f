/-
  A fraction as an argument: its form and its reading.
-/
import Derived.Test.YtmdgjgeblplhpaaDoorRows
import Derived.WalkKit
import Derived.ProofKit
import Derived.OpenShut
import Derived.Deep.Strs
namespace Go.Proofs.YtmdgjgeblplhpaaDoor
open Go.ChangeShapes Go.WideShapes Go.ChangeAt Go.RowKit
theorem cells27 : Tryd.prog.cellsOf 27 = 2 := by kernel_rfl
theorem cells2 : Tryd.prog.cellsOf 2 = 1 := by kernel_rfl
set_option maxRecDepth 20000 in
theorem open27 {H : Type} {enc : TypeId × Value → H} {w : World} {base : Nat} {sp : Nat → Bool} {held : Bool} {r : Reach} {b0 : Nat} {v : Value} {d : DataW H} {ps : List MemPlace}
    (hval : Value.okWide Tryd.prog w r b0 27 v) (hd : DataW.Trod enc Tryd.prog w base sp held 27 v d ps) :
    ∃ a b, v = .agg #[.int .i64 a, .int .i64 b] ∧ d = .agg [.lit (.int .i64 a), .lit (.int .i64 b)] ∧ ps = [] ∧ (Lit.int .i64 a).wf = true ∧ (Lit.int .i64 b).wf = true := by
  obtain ⟨cs, rfl, hsz⟩ := okWide_struct Tryd.underlying27 hval
  rw [cells27] at hsz
  obtain ⟨l⟩ := cs
  match l, hsz with
  | [c0, c1], _ =>
  obtain ⟨fuel, hf⟩ := hd
  obtain ⟨y0, y1, m, hx, _, hy0, hy1⟩ := trod_struct2 Tryd.underlying27 hf
  obtain ⟨a, e0, rfl, wa⟩ := DataW.trod_int Tryd.underlying2 hy0
  obtain ⟨b, e1, rfl, wb⟩ := DataW.trod_int Tryd.underlying2 hy1
  simp [Value.cells, cells2] at e0 e1
  subst e0 e1
  simp only [Prod.mk.injEq] at hx
  obtain ⟨rfl, rfl⟩ := hx
  exact ⟨a, b, rfl, rfl, by simp, wa, wb⟩
set_option maxRecDepth 20000 in
theorem shut27 {H : Type} {enc : TypeId × Value → H} {w : World} {base : Nat} {sp : Nat → Bool} {held : Bool} {a b : Int} (wa : (Lit.int .i64 a).wf = true) (wb : (Lit.int .i64 b).wf = true) :
    DataW.Trod enc Tryd.prog w base sp held 27 (.agg #[.int .i64 a, .int .i64 b]) (.agg [.lit (.int .i64 a), .lit (.int .i64 b)]) [] := ⟨2, by
  have f0 : DataW.trod enc Tryd.prog w base sp held 1 2 [.int .i64 a] = some (.lit (.int .i64 a), []) := by simp [DataW.trod, Tryd.underlying2, wa]
  have f1 : DataW.trod enc Tryd.prog w base sp held 1 2 [.int .i64 b] = some (.lit (.int .i64 b), []) := by simp [DataW.trod, Tryd.underlying2, wb]
  have := trod_struct2_mk (enc := enc) (w := w) (base := base) (spare := sp) (held := held) (n := 1) (cs := [.int .i64 a, .int .i64 b]) Tryd.underlying27 (by simp [cells27]) (by simpa [cells2] using f0) (by simpa [cells2] using f1)
  simpa [Value.cells] using this⟩
end Go.Proofs.YtmdgjgeblplhpaaDoor
