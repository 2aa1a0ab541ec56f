/-
  The table of the powers of ten, off the row's premise.
-/
import Derived.Test.YtgikafojkcjllaaDoorGB
import Derived.Test.YtgikafojkcjllaaDoorRows
import Derived.Lib.LaidTab
import Derived.Lib.SmallJoins
namespace Go.Proofs.YtgikafojkcjllaaDoor
open Go.RowKit
set_option linter.unusedVariables false

/-- The variables that the rows list. -/
def laid : List (String × DataW Unit) := [("math/bits.deBruijn32tab", Rows.laid_math_bits_deBruijn32tab), ("math/bits.deBruijn64tab", Rows.laid_math_bits_deBruijn64tab), ("internal/strconv.uint64pow10", Rows.laid_internal_strconv_uint64pow10)]

theorem tab_of_vars {P : Program} {W : World} {name : String} {k : IntKind} {zs : List Int} {rest : List (String × DataW Unit)} {g : Nat} {t e : TypeId} {n : Nat} {ps : List MemPlace}
    (hg : P.globalNamed name = some g) (hty : (P.globals[g]?).map (·.type) = some t) (ht : P.underlying t = some (.array n e)) (he : P.underlying e = some (.int k)) (hce : P.cellsOf e = 1) (hct : P.cellsOf t = n)
    (h : DataW.LaidVars P W ((name, Lib.tabData k zs) :: rest) ps) : Lib.TabIs P W name k zs := by
  obtain ⟨g', t', cs, fuel, p, q, hg', ht', hvar, hd, _, _⟩ := h
  obtain rfl := Option.some.inj (hg.symm.trans hg')
  obtain rfl := Option.some.inj (hty.symm.trans ht')
  unfold Lib.TabIs
  rw [hvar, ← Lib.cells_of_tab ht he hce hct hd]
theorem vars_tail {P : Program} {W : World} {x : String × DataW Unit} {rest : List (String × DataW Unit)} {ps : List MemPlace}
    (h : DataW.LaidVars P W (x :: rest) ps) : ∃ q, DataW.LaidVars P W rest q := by
  obtain ⟨_, _, _, _, _, q, _, _, _, _, h', _⟩ := h
  exact ⟨q, h'⟩

theorem gPows : Tryd.prog.globalNamed "internal/strconv.uint64pow10" = some 0 := by kernel_rfl
theorem pow_of {w : World} (hL : laidMetH Tryd.prog laid w) : Pow w := by
  have h : laidMet Tryd.prog laid w := hL
  obtain ⟨ps, h0, _⟩ := h
  obtain ⟨p1, h1⟩ := vars_tail h0
  obtain ⟨p2, h2⟩ := vars_tail h1
  exact tab_of_vars (k := .u64) (zs := Lib.pow10Tab) gPows (t := 70) (by kernel_rfl) Tryd.underlying70 Tryd.underlying34 (by kernel_rfl) (by kernel_rfl) h2
theorem Pow.keep {w w' : World} (h : Pow w) (hb : Below w.heap.size w w') : Pow w' := Go.Joins.tab_stays gPows h hb (Nat.le_refl _)
end Go.Proofs.YtgikafojkcjllaaDoor
