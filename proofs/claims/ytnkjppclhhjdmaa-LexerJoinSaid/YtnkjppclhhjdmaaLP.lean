/-
  own: the tokens of an argument, anew.
-/
import Derived.Test.YtnkjppclhhjdmaaRows
import Derived.Test.YtnkjppclhhjdmaaLO
import Derived.WalkKit
import Derived.WalkSpells
import Derived.StillTactics
import Derived.Laws.Pointers
import Derived.Laws.Strings
import Derived.Laws.Strings2
import Derived.Laws.BytesArg
import Derived.LoopTactic
import Derived.Outline
import Derived.Below
import Derived.Laws.Externs
import Derived.Deep.QuietTactic
import Derived.Deep.RegionWith
import Derived.BigQuiet
import Derived.RegionTactic
import Derived.ChangeAlike
import Derived.OwnWalk
import Derived.Laws.OwnMore
import Derived.Laws.Rows
import Derived.Laws.EntriesVeiled
import Derived.Lib.MinMax
import Derived.Lib.Strings
namespace Go.Proofs.Ytnkjppclhhjdmaa
open Go.RowKit
set_option linter.unusedVariables false
set_option linter.unusedSimpArgs false
set_option linter.unnecessarySimpa false
set_option maxHeartbeats 4000000

theorem size_bn (s : ByteArray) : s.size = (bn s).length := (bn_len s).symm
set_option maxRecDepth 20000 in
theorem classify_all (s : ByteArray) (w : World) : Calls Try.prog 10 #[.string s] w fun e w' => e = .returned (.tuple #[.int .i64 (Lx.kindK (bn s) : Int), .int .i64 (Lx.kindE (bn s) : Int)]) ∧ Below w.heap.size w w' := by
  by_cases h : s.size ≤ 100000
  · exact classify_any s w h
  · have e1 : Lx.kindK (bn s) = 0 := by unfold Lx.kindK; rw [if_pos (by rw [bn_len]; omega)]
    have e2 : Lx.kindE (bn s) = 5 := by unfold Lx.kindE; rw [if_pos (by rw [bn_len]; omega)]
    rw [e1, e2]
    have h1 : (32 : Int) < s.size := by omega
    clear h e1 e2
    go_enter Try.func10, Try.ntmps10
    go_wp2_with fail
    go_ret2
    exact ⟨rfl, Below.refl _ _⟩

def rwC (r : Rw) : List Value := [.int .i64 r.k, .string r.t, .int .i64 r.p]
def rwL (L : List Rw) : List Value := L.flatMap rwC
theorem rwL_len (L : List Rw) : (rwL L).length = L.length * 3 := by
  unfold rwL
  induction L with
  | nil => rfl
  | cons a L ih => rw [List.flatMap_cons, List.length_append, ih]; simp [rwC]; omega
theorem rwL_at : ∀ {L : List Rw} {k : Nat} {r : Rw} (j : Nat), L[k]? = some r → j < 3 → (rwL L)[k * 3 + j]? = (rwC r)[j]?
  | [], k, r, j, h, _ => by simp at h
  | a :: L, 0, r, j, h, hj => by
    obtain rfl : a = r := by simpa using h
    have e : rwL (a :: L) = rwC a ++ rwL L := by unfold rwL; rw [List.flatMap_cons]
    rw [e, Nat.zero_mul, Nat.zero_add, List.getElem?_append_left (by simp [rwC]; omega)]
  | a :: L, k + 1, r, j, h, hj => by
    have e : rwL (a :: L) = rwC a ++ rwL L := by unfold rwL; rw [List.flatMap_cons]
    have e2 : (rwC a).length = 3 := by simp [rwC]
    rw [e, List.getElem?_append_right (by omega), e2, show (k + 1) * 3 + j - 3 = k * 3 + j by omega]
    exact rwL_at j (by simpa using h) hj
/-- A slice of tokens of the call. -/
def OwV (w : World) (base : Nat) (v : Value) (L : List Rw) : Prop := w.ownsRow base 37 3 v L.length (rwL L)
theorem OwV.nil (w : World) (base : Nat) : OwV w base (.slice none 0 0) [] := World.ownsRow_nil w base 37 3
theorem OwV.keep {w w' : World} {base : Nat} {v : Value} {L : List Rw} (h : OwV w base v L) (hb : Below w.heap.size w w') : OwV w' base v L :=
  World.ownsRow.kept (row := none) h ⟨hb.os, hb.tape, hb.output, hb.size, fun k hk _ => hb.block k hk⟩ (by cases hv : v.ownBlock <;> simp)
theorem OwV.lt {w : World} {base : Nat} {v : Value} {L : List Rw} (h : OwV w base v L) : ∀ k, v.ownBlock = some k → base ≤ k ∧ k < w.heap.size := World.ownsRow.lt h
theorem OwV.rd {w : World} {base : Nat} {v : Value} {L : List Rw} (h : OwV w base v L) : RdR w v L := by
  rcases h.2 with ⟨hv, hz⟩ | ⟨g, cap, cur, hv, hb, hg, hc, hm, hs, ht⟩
  · have : L = [] := List.length_eq_zero_iff.1 hz
    subst this
    exact ⟨none, 0, hv, fun i r hr => by simp at hr⟩
  · refine ⟨_, cap, hv, fun i r hr => ?_⟩
    have hc : ∀ i u, (rwL L)[i]? = some u → w.cell? ⟨g, i, none⟩ = some u := fun i u hu => by
      rw [cell_of_row w g i cur 37 (0, 0) hg]
      rw [← ht, List.getElem?_take] at hu
      split at hu
      · exact hu
      · cases hu
    exact ⟨g, 0, rfl, (Array.getElem?_eq_some_iff.1 hg).1, hc _ _ (by rw [Nat.zero_add, ← Nat.add_zero (i * 3), rwL_at 0 hr (by decide)]; rfl),
      hc _ _ (by rw [Nat.zero_add, rwL_at 1 hr (by decide)]; rfl), hc _ _ (by rw [Nat.zero_add, rwL_at 2 hr (by decide)]; rfl)⟩
theorem wpList_apV {W : World} {ops : Array Oper} {rest : List Oper} {o : Oper} {a : Act} {w : World} {Q : Exit → Act → World → Prop} {v : Value} {L : List Rw} {t : Rw} {g : Nat} (HB : Below W.heap.size W w) (hown : OwV w W.heap.size v L)
    (hc : ∀ j u, (rwC t)[j]? = some u → w.cell? ⟨g, j, none⟩ = some u) (hl : L.length ≤ 1000000) (hgd : o.guard = none) (s x : Operand)
    (ho : o.op = .call { callee := .builtin .append, args := #[s, x], argTypes := #[29, 29] }) (hs : a.eval s = v) (hx : a.eval x = .slice (some ⟨g, 0, none⟩) 1 1)
    (h : ∀ v' w', Hid (OwV w' W.heap.size v' (L ++ [t])) → Hid (Below W.heap.size W w') → wpList Try.prog ops Q rest (a.put o.dst v') w') : wpList Try.prog ops Q (o :: rest) a w := by
  obtain ⟨i0, hi, hz0, hz1, hz2⟩ := info_parts Try.info37
  obtain ⟨v', w', hr, ho', hg, _⟩ := run_append_own (P := Try.prog) w W.heap.size 29 o.type 37 i0 _ 3 32 Try.underlying29 hi hz0 hz1 hz2 rfl (by decide) v L.length (rwL L) hown ⟨g, 0, none⟩ 1 1 (rwC t)
    rfl (fun j u hu => by have := hc j u hu; by_cases hj : j = 0 <;> simp_all [Addr.add]) (fun u hu => by
      simp [rwC] at hu
      rcases hu with rfl | rfl | rfl <;> rfl) (by unfold maxLen; omega) (by omega) HB.size
  refine wpList_plain hgd fun K hK => ?_
  unfold Oper.wp execOp
  simp only [ho, resolve, invoke, builtin, Sem.run_bind, Sem.run_pure, Result.andThen_ok, List.map_toArray, List.map_cons, List.map_nil, hs, hx, hr]
  refine hK _ _ (h v' w' (hide ?_) (hide (HB.grown hg HB.size (fun k hk => (hown.lt k hk).1))))
  unfold OwV
  rw [List.length_append]
  have e : rwL (L ++ [t]) = rwL L ++ rwC t := by unfold rwL; rw [List.flatMap_append]; simp
  rw [e]; exact ho'
theorem rw_cells (w : World) (t : Rw) : ∀ j u, (rwC t)[j]? = some u → (w.alloc (Obj.cells #[.int .i64 t.k, .string t.t, .int .i64 t.p] 37)).cell? ⟨w.heap.size, j, none⟩ = some u := by
  intro j u hu
  rw [World.cell?_alloc_at _ _ _ _ rfl]
  match j with
  | 0 => simpa [rwC, go_sem] using hu
  | 1 => simpa [rwC, go_sem] using hu
  | 2 => simpa [rwC, go_sem] using hu
  | j + 3 => simp [rwC] at hu
/-- own: the tokens, anew. -/
def OwnP (w : World) (L : List Rw) (e : Ending) (w' : World) : Prop := ∃ v, e = .returned v ∧ OwV w' w.heap.size v L ∧ Below w.heap.size w w'
set_option maxRecDepth 20000 in
theorem own_any (v0 : Value) (L : List Rw) (w : World) (h : RdR w v0 L) (hm : L.length ≤ 100000) : Calls Try.prog 17 #[v0] w (OwnP w L) := by
  obtain ⟨a1, c1, rfl, H1⟩ := h.at
  obtain ⟨N, hN⟩ : ∃ N, N = L.length := ⟨_, rfl⟩
  rw [← hN] at H1 hm ⊢
  have HH := fun i h => hide (H1 i h)
  have HN := hide hN
  have hmi : (N : Int) ≤ 100000 := by omega
  clear H1 h hN hm
  go_enter Try.func17, Try.ntmps17
  go_wp2_with fail
  go_loopw [3, 4] (fun v3 v4 wr => ∃ i : Nat, v4 = .int .i64 (i : Int) ∧ i ≤ N ∧ Hid (OwV wr w.heap.size v3 (L.take i)) ∧ Hid (Below w.heap.size w wr)) (fun _ v4 _ => N - (intOf v4).toNat)
  case atStart => exact ⟨0, rfl, Nat.zero_le _, hide (OwV.nil _ _), hide (Below.refl _ _)⟩
  case round =>
    obtain ⟨i, rfl, hi, OW, BL⟩ := hrel
    by_cases hlt : i < N
    · have hlt' : (i : Int) < N := by omega
      obtain ⟨g1, o1, r, e1, rfl, s1, p0, p1, p2⟩ := (HH i hlt).out
      have p0 := (BL.out.cell (p := ⟨g1, _, none⟩) s1).trans p0
      have p1 := (BL.out.cell (p := ⟨g1, _, none⟩) s1).trans p1
      have p2 := (BL.out.cell (p := ⟨g1, _, none⟩) s1).trans p2
      have B2 := hide (BL.out.alloc BL.out.size (Obj.cells #[.int .i64 r.k, .string r.t, .int .i64 r.p] 37))
      have O2 := hide (OW.out.keep (one_alloc wr (Obj.cells #[.int .i64 r.k, .string r.t, .int .i64 r.p] 37)))
      have RC := hide (rw_cells wr r)
      have LT := hide (show (L.take i).length ≤ 1000000 by rw [List.length_take]; omega)
      have ET := hide (show L.take i ++ [r] = L.take (i + 1) by rw [List.take_add_one, e1]; rfl)
      clear HH e1 s1 OW
      go_wp2_with (refine wpList_apV (W := w) B2.out O2.out RC.out LT.out rfl (.tmp 11) (.tmp 16) rfl rfl rfl ?_; intro v3 w3 HO3 HB3)
      rw [ET.out] at HO3
      go_roundw
      case rel => exact ⟨i + 1, by go_num, hlt, HO3, HB3⟩
      case measure => simp [intOf]; omega
    · have hlt' : ¬ (i : Int) < N := by omega
      have OW2 := hide (show OwV wr w.heap.size u3 L by have := OW.out; rwa [List.take_of_length_le (by have := HN.out; omega)] at this)
      clear OW
      go_wp2_with fail
      go_ret
      exact ⟨_, rfl, OW2.out, BL.out⟩

end Go.Proofs.Ytnkjppclhhjdmaa
