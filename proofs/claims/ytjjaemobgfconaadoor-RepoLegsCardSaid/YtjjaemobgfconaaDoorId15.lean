/-
  The table of the row; the walk of IdentCheck.
-/
import Derived.Test.YtjjaemobgfconaaDoorId13
namespace Go.Proofs.YtjjaemobgfconaaDoor
open Go.RowKit
set_option linter.unusedVariables false
set_option maxRecDepth 20000

theorem struct_ints {H : Type} {enc : TypeId × Value → H} {P : Program} {w : World} {base : Nat} {sp : Nat → Bool} {held : Bool} {fuel : Nat} {t : TypeId} {fs : Array Field} {cs : List Value} {zs : List Int} {p : List MemPlace}
    (ht : P.underlying t = some (.struct fs)) (hn : fs.size = zs.length) (hct : P.cellsOf t = zs.length)
    (hf : ∀ (i : Nat) (f : Field), fs[i]? = some f → f.offset = i ∧ P.underlying f.type = some (.int .i64) ∧ P.cellsOf f.type = 1)
    (h : DataW.trod enc P w base sp held fuel t cs = some (.agg (zs.map fun z => .lit (.int .i64 z)), p)) : cs = zs.map fun z => Value.int .i64 z := by
  obtain ⟨xs, n, _, hx, hl, hlen, hg⟩ := DataW.trod_struct ht h
  have hxs : (zs.map fun z => (DataW.lit (.int .i64 z) : DataW H)) = xs.map (·.1) := by
    have := congrArg Prod.fst hx
    simpa using this
  apply List.ext_getElem?
  intro i
  by_cases hi : i < zs.length
  · have hi' : i < fs.size := by omega
    obtain ⟨f0, hf0⟩ : ∃ f, fs[i]? = some f := ⟨fs[i], by simp [hi']⟩
    obtain ⟨o1, o2, o3⟩ := hf i f0 hf0
    have h1 := hg i f0 hf0
    obtain ⟨b, hb⟩ : ∃ b, xs[i]? = some b := ⟨xs[i]'(by omega), by simp [show i < xs.length by omega]⟩
    rw [hb, o1, o3] at h1
    obtain ⟨z, hc, rfl, _⟩ := DataW.trod_int o2 h1
    have h2 : cs[i]? = some (.int .i64 z) := by
      have := congrArg (·[0]?) hc
      simpa [List.getElem?_take, List.getElem?_drop] using this
    have h3 : (zs.map fun z => (DataW.lit (.int .i64 z) : DataW H))[i]? = some (.lit (.int .i64 z)) := by rw [hxs]; simp [hb]
    simp only [List.getElem?_map, Option.map_eq_some_iff, DataW.lit.injEq, Lit.int.injEq, true_and] at h3
    obtain ⟨z', hz', rfl⟩ := h3
    simp [h2, hz']
  · rw [List.getElem?_eq_none (by omega), List.getElem?_eq_none (by simp; omega)]

/-- The variables that the rows list. -/
def laid : List (String × DataW Unit) := [("giro/ident.shapes", Rows.laid_giro_ident_shapes)]
theorem row4 (cs : List Value) (h : cs.length = 28) (r0 r1 r2 r3 : List Value) (h0 : (cs.drop 0).take 7 = r0) (h1 : (cs.drop 7).take 7 = r1) (h2 : (cs.drop 14).take 7 = r2) (h3 : (cs.drop 21).take 7 = r3) : cs = r0 ++ (r1 ++ (r2 ++ r3)) := by
  subst h0 h1 h2 h3
  have a : ∀ (l : List Value) (n : Nat), l.take n ++ l.drop n = l := fun l n => List.take_append_drop n l
  have e3 : (cs.drop 21).take 7 = cs.drop 21 := List.take_of_length_le (by simp [h])
  have e2 : (cs.drop 14).take 7 ++ cs.drop 21 = cs.drop 14 := by
    have := a (cs.drop 14) 7
    rwa [List.drop_drop] at this
  have e1 : (cs.drop 7).take 7 ++ cs.drop 14 = cs.drop 7 := by
    have := a (cs.drop 7) 7
    rwa [List.drop_drop] at this
  rw [e3, e2, e1, List.drop_zero]
  exact (a cs 7).symm

theorem fields47 : ∀ (i : Nat) (f : Field), (match Tryd.prog.underlying 95 with | some (.struct fs) => fs | _ => #[])[i]? = some f → f.offset = i ∧ Tryd.prog.underlying f.type = some (.int .i64) ∧ Tryd.prog.cellsOf f.type = 1 := by
  intro i f h
  rw [Tryd.underlying95] at h
  match i, h with
  | 0, h => simp at h; subst h; exact ⟨rfl, Tryd.underlying3, by kernel_rfl⟩
  | 1, h => simp at h; subst h; exact ⟨rfl, Tryd.underlying3, by kernel_rfl⟩
  | 2, h => simp at h; subst h; exact ⟨rfl, Tryd.underlying3, by kernel_rfl⟩
  | 3, h => simp at h; subst h; exact ⟨rfl, Tryd.underlying3, by kernel_rfl⟩
  | 4, h => simp at h; subst h; exact ⟨rfl, Tryd.underlying3, by kernel_rfl⟩
  | 5, h => simp at h; subst h; exact ⟨rfl, Tryd.underlying3, by kernel_rfl⟩
  | 6, h => simp at h; subst h; exact ⟨rfl, Tryd.underlying3, by kernel_rfl⟩
  | (n + 7), h => simp at h

theorem shp_of {w : World} (hL : laidMetH Tryd.prog laid w) : Shp w := by
  have h : laidMet Tryd.prog laid w := hL
  obtain ⟨ps, ⟨g', t', cs, fuel, p, q, hg', ht', hvar, hd, _, _⟩, _⟩ := h
  obtain rfl := Option.some.inj (gShp.symm.trans hg')
  have hty : (Tryd.prog.globals[2]?).map (·.type) = some 96 := by kernel_rfl
  obtain rfl := Option.some.inj (hty.symm.trans ht')
  obtain ⟨xs, m, _, hx, hl, hlen, hg⟩ := DataW.trod_array Tryd.underlying96 hd
  have c47 : Tryd.prog.cellsOf 95 = 7 := by kernel_rfl
  have c48 : Tryd.prog.cellsOf 96 = 28 := by kernel_rfl
  rw [c48] at hl
  have f47 := fields47
  rw [Tryd.underlying95] at f47
  have hx1 := congrArg Prod.fst hx
  unfold Rows.laid_giro_ident_shapes at hx1
  match xs, hlen, hx1, hg with
  | [x0, x1, x2, x3], _, hx1, hg =>
    simp only [List.map_cons, List.map_nil, DataW.agg.injEq, List.cons.injEq, and_true] at hx1
    obtain ⟨e0, e1, e2, e3⟩ := hx1
    have g0 := hg 0 (by decide)
    have g1 := hg 1 (by decide)
    have g2 := hg 2 (by decide)
    have g3 := hg 3 (by decide)
    rw [c47] at g0 g1 g2 g3
    have r0 := struct_ints (zs := [12, 12, 2, 1, 0, 2, 1]) Tryd.underlying95 rfl c47 f47 (p := x0.2) (by rw [g0]; simp only [List.map_cons, List.map_nil]; rw [e0]; rfl)
    have r1 := struct_ints (zs := [4, 8, 1, 0, 0, 2, 2]) Tryd.underlying95 rfl c47 f47 (p := x1.2) (by rw [g1]; simp only [List.map_cons, List.map_nil]; rw [e1]; rfl)
    have r2 := struct_ints (zs := [1, 16, 0, 0, 3, 3, 3]) Tryd.underlying95 rfl c47 f47 (p := x2.2) (by rw [g2]; simp only [List.map_cons, List.map_nil]; rw [e2]; rfl)
    have r3 := struct_ints (zs := [20, 20, 0, 2, 2, 2, 1]) Tryd.underlying95 rfl c47 f47 (p := x3.2) (by rw [g3]; simp only [List.map_cons, List.map_nil]; rw [e3]; rfl)
    have := row4 cs.toList hl _ _ _ _ r0 r1 r2 r3
    unfold Shp Lib.TabIs
    rw [hvar]
    exact congrArg some (Array.toList_inj.1 this)
end Go.Proofs.YtjjaemobgfconaaDoor
