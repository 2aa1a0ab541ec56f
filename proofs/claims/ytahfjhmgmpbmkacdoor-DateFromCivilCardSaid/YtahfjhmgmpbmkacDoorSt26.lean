/-
  A date as an argument: its form and its reading.
-/
import Derived.Test.YtahfjhmgmpbmkacDoorRows
import Derived.WalkKit
import Derived.ProofKit
import Derived.OpenShut
import Derived.Deep.Strs
namespace Go.Proofs.YtahfjhmgmpbmkacDoor
open Go.ChangeShapes Go.WideShapes Go.ChangeAt Go.RowKit
theorem cells26 : Tryd.prog.cellsOf 26 = 3 := by kernel_rfl
theorem cells3 : Tryd.prog.cellsOf 3 = 1 := by kernel_rfl
theorem open26 {H : Type} {enc : TypeId × Value → H} {w : World} {base : Nat} {sp : Nat → Bool} {held : Bool} {r : Reach} {b0 : Nat} {v : Value} {d : DataW H} {ps : List MemPlace}
    (hval : Value.okWide Tryd.prog w r b0 26 v) (hd : DataW.Trod enc Tryd.prog w base sp held 26 v d ps) :
    ∃ a b c, v = .agg #[.int .i64 a, .int .i64 b, .int .i64 c] ∧ d = .agg [.lit (.int .i64 a), .lit (.int .i64 b), .lit (.int .i64 c)] ∧ ps = [] ∧ (Lit.int .i64 a).wf = true ∧ (Lit.int .i64 b).wf = true ∧ (Lit.int .i64 c).wf = true := by
  obtain ⟨cs, rfl, hsz⟩ := okWide_struct Tryd.underlying26 hval
  rw [cells26] at hsz
  obtain ⟨l⟩ := cs
  match l, hsz with
  | [c0, c1, c2], _ =>
  obtain ⟨fuel, hf⟩ := hd
  obtain ⟨y0, y1, y2, m, hx, _, hy0, hy1, hy2⟩ := Go.Deep.trod_struct3 Tryd.underlying26 hf
  obtain ⟨a, e0, rfl, wa⟩ := DataW.trod_int Tryd.underlying3 hy0
  obtain ⟨b, e1, rfl, wb⟩ := DataW.trod_int Tryd.underlying3 hy1
  obtain ⟨c, e2, rfl, wc⟩ := DataW.trod_int Tryd.underlying3 hy2
  simp [Value.cells, cells3] at e0 e1 e2
  subst e0 e1 e2
  simp only [Prod.mk.injEq] at hx
  obtain ⟨rfl, rfl⟩ := hx
  exact ⟨a, b, c, rfl, rfl, by simp, wa, wb, wc⟩
theorem shut26 {H : Type} {enc : TypeId × Value → H} {w : World} {base : Nat} {sp : Nat → Bool} {held : Bool} {a b c : Int} (wa : (Lit.int .i64 a).wf = true) (wb : (Lit.int .i64 b).wf = true) (wc : (Lit.int .i64 c).wf = true) :
    DataW.Trod enc Tryd.prog w base sp held 26 (.agg #[.int .i64 a, .int .i64 b, .int .i64 c]) (.agg [.lit (.int .i64 a), .lit (.int .i64 b), .lit (.int .i64 c)]) [] := ⟨2, by
  have f0 : DataW.trod enc Tryd.prog w base sp held 1 3 [.int .i64 a] = some (.lit (.int .i64 a), []) := by simp [DataW.trod, Tryd.underlying3, wa]
  have f1 : DataW.trod enc Tryd.prog w base sp held 1 3 [.int .i64 b] = some (.lit (.int .i64 b), []) := by simp [DataW.trod, Tryd.underlying3, wb]
  have f2 : DataW.trod enc Tryd.prog w base sp held 1 3 [.int .i64 c] = some (.lit (.int .i64 c), []) := by simp [DataW.trod, Tryd.underlying3, wc]
  have := Go.Deep.trod_struct3_mk (enc := enc) (w := w) (base := base) (spare := sp) (held := held) (n := 1) (cs := [.int .i64 a, .int .i64 b, .int .i64 c]) Tryd.underlying26 (by simp [cells26]) (by simpa [cells3] using f0) (by simpa [cells3] using f1) (by simpa [cells3] using f2)
  simpa [Value.cells] using this⟩
end Go.Proofs.YtahfjhmgmpbmkacDoor
