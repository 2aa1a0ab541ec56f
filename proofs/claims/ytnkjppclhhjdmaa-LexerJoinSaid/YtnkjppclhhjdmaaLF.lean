/-
  A slice of tokens of the call.
-/
import Derived.Test.YtnkjppclhhjdmaaRows
import Derived.Test.YtnkjppclhhjdmaaLE
import Derived.WalkKit
import Derived.WalkSpells
import Derived.StillTactics
import Derived.Laws.Pointers
import Derived.Laws.Strings
import Derived.Laws.Strings2
import Derived.Laws.BytesArg
import Derived.LoopTactic
import Derived.Outline
import Derived.Below
import Derived.Laws.Externs
import Derived.Deep.QuietTactic
import Derived.Deep.RegionWith
import Derived.BigQuiet
import Derived.RegionTactic
import Derived.ChangeAlike
import Derived.OwnWalk
import Derived.Laws.OwnMore
import Derived.Laws.Rows
import Derived.Laws.EntriesVeiled
import Derived.Lib.MinMax
import Derived.Lib.Strings
namespace Go.Proofs.Ytnkjppclhhjdmaa
open Go.RowKit
set_option linter.unusedVariables false
set_option linter.unusedSimpArgs false
set_option linter.unnecessarySimpa false

def bs (l : List Nat) : ByteArray := ⟨(l.map UInt8.ofNat).toArray⟩
theorem bs_bn (s : ByteArray) : bs (bn s) = s := by
  unfold bs bn
  rw [List.map_map]
  apply ByteArray.ext
  apply Array.toList_inj.1
  show List.map (UInt8.ofNat ∘ UInt8.toNat) s.data.toList = s.data.toList
  conv => rhs; rw [← List.map_id s.data.toList]
  apply List.map_congr_left
  intro x _
  simp
def tkC (t : Lx.Tk) : List Value := [.int .i64 (t.kind : Int), .string (bs t.text), .int .i64 (t.pos : Int)]
def tkL (L : List Lx.Tk) : List Value := L.flatMap tkC
theorem tkL_len (L : List Lx.Tk) : (tkL L).length = L.length * 3 := by
  unfold tkL
  induction L with
  | nil => rfl
  | cons a L ih => rw [List.flatMap_cons, List.length_append, ih]; simp [tkC]; omega
def OwT (w : World) (base : Nat) (v : Value) (L : List Lx.Tk) : Prop := w.ownsRow base 37 3 v L.length (tkL L)
theorem OwT.nil (w : World) (base : Nat) : OwT w base (.slice none 0 0) [] := World.ownsRow_nil w base 37 3
theorem OwT.keep {w w' : World} {base : Nat} {v : Value} {L : List Lx.Tk} (h : OwT w base v L) (hb : Below w.heap.size w w') : OwT w' base v L :=
  World.ownsRow.kept (row := none) h ⟨hb.os, hb.tape, hb.output, hb.size, fun k hk _ => hb.block k hk⟩ (by cases hv : v.ownBlock <;> simp)
theorem OwT.lt {w : World} {base : Nat} {v : Value} {L : List Lx.Tk} (h : OwT w base v L) : ∀ k, v.ownBlock = some k → base ≤ k ∧ k < w.heap.size := World.ownsRow.lt h
theorem info_parts {T : TypeId} {z : Value} {s b : Nat} (h : (Try.prog.info? T).map (fun i => (i.zero, i.size, i.bytes)) = some (some z, s, b)) : ∃ i, Try.prog.info? T = some i ∧ i.zero = some z ∧ i.size = s ∧ i.bytes = b := by
  cases hi : Try.prog.info? T with
  | none => rw [hi] at h; cases h
  | some i =>
    rw [hi] at h
    simp at h
    exact ⟨i, rfl, h.1, h.2.1, h.2.2⟩
theorem Try.info37 : (Try.prog.info? 37).map (fun i => (i.zero, i.size, i.bytes)) = some (some (.agg #[.int .i64 0, .string ⟨#[]⟩, .int .i64 0]), 3, 32) := by kernel_rfl
theorem wpList_apT {W : World} {ops : Array Oper} {rest : List Oper} {o : Oper} {a : Act} {w : World} {Q : Exit → Act → World → Prop} {v : Value} {L : List Lx.Tk} {t : Lx.Tk} {g : Nat} (HB : Below W.heap.size W w) (hown : OwT w W.heap.size v L)
    (hc : ∀ j u, (tkC t)[j]? = some u → w.cell? ⟨g, j, none⟩ = some u) (hl : L.length ≤ 1000000) (hgd : o.guard = none) (s x : Operand)
    (ho : o.op = .call { callee := .builtin .append, args := #[s, x], argTypes := #[29, 29] }) (hs : a.eval s = v) (hx : a.eval x = .slice (some ⟨g, 0, none⟩) 1 1)
    (h : ∀ v' w', Hid (OwT w' W.heap.size v' (L ++ [t])) → Hid (Below W.heap.size W w') → wpList Try.prog ops Q rest (a.put o.dst v') w') : wpList Try.prog ops Q (o :: rest) a w := by
  obtain ⟨i0, hi, hz0, hz1, hz2⟩ := info_parts Try.info37
  obtain ⟨v', w', hr, ho', hg, _⟩ := run_append_own (P := Try.prog) w W.heap.size 29 o.type 37 i0 _ 3 32 Try.underlying29 hi hz0 hz1 hz2 rfl (by decide) v L.length (tkL L) hown ⟨g, 0, none⟩ 1 1 (tkC t)
    rfl (fun j u hu => by have := hc j u hu; by_cases hj : j = 0 <;> simp_all [Addr.add]) (fun u hu => by
      simp [tkC] at hu
      rcases hu with rfl | rfl | rfl <;> rfl) (by unfold maxLen; omega) (by omega) HB.size
  refine wpList_plain hgd fun K hK => ?_
  unfold Oper.wp execOp
  simp only [ho, resolve, invoke, builtin, Sem.run_bind, Sem.run_pure, Result.andThen_ok, List.map_toArray, List.map_cons, List.map_nil, hs, hx, hr]
  refine hK _ _ (h v' w' (hide ?_) (hide (HB.grown hg HB.size (fun k hk => (hown.lt k hk).1))))
  unfold OwT
  rw [List.length_append]
  have e : tkL (L ++ [t]) = tkL L ++ tkC t := by unfold tkL; rw [List.flatMap_append]; simp
  rw [e]; exact ho'
theorem tok_cells (w : World) (t : Lx.Tk) {k p : Int} {s : ByteArray} (h1 : k = (t.kind : Int)) (h2 : s = bs t.text) (h3 : p = (t.pos : Int)) : ∀ j u, (tkC t)[j]? = some u → (w.alloc (Obj.cells #[.int .i64 k, .string s, .int .i64 p] 37)).cell? ⟨w.heap.size, j, none⟩ = some u := by
  subst h1 h2 h3
  intro j u hu
  rw [World.cell?_alloc_at _ _ _ _ rfl]
  match j with
  | 0 => simpa [tkC, go_sem] using hu
  | 1 => simpa [tkC, go_sem] using hu
  | 2 => simpa [tkC, go_sem] using hu
  | j + 3 => simp [tkC] at hu

end Go.Proofs.Ytnkjppclhhjdmaa
