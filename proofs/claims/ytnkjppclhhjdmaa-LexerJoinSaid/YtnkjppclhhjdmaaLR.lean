/-
  Join.
-/
import Derived.Test.YtnkjppclhhjdmaaRows
import Derived.Test.YtnkjppclhhjdmaaLQ
import Derived.WalkKit
import Derived.WalkSpells
import Derived.StillTactics
import Derived.Laws.Pointers
import Derived.Laws.Strings
import Derived.Laws.Strings2
import Derived.Laws.BytesArg
import Derived.LoopTactic
import Derived.Outline
import Derived.Below
import Derived.Laws.Externs
import Derived.Deep.QuietTactic
import Derived.Deep.RegionWith
import Derived.BigQuiet
import Derived.RegionTactic
import Derived.ChangeAlike
import Derived.OwnWalk
import Derived.Laws.OwnMore
import Derived.Laws.Rows
import Derived.Laws.EntriesVeiled
import Derived.Lib.MinMax
import Derived.Lib.Strings
namespace Go.Proofs.Ytnkjppclhhjdmaa
open Go.RowKit
set_option linter.unusedVariables false
set_option linter.unusedSimpArgs false
set_option linter.unnecessarySimpa false
set_option maxHeartbeats 4000000

theorem join_call (gT : Nat) (xs : List ByteArray) (w : World) (hg : w.heap[gT]? = some (.cells (stC xs xs.length) 9 (0, 0))) (hN : xs.length ≤ 1000000) (hx : ∀ x ∈ xs, x.size ≤ 32) :
    Calls Try.prog 40 #[.slice (some ⟨gT, 0, none⟩) xs.length xs.length, .string ⟨#[32]⟩] w fun e w' => e = .returned (.string (jB xs)) ∧ Below w.heap.size w w' := by
  have hl := jB_len xs hx
  refine (Try.strings_Join gT 0 xs.length xs ⟨#[32]⟩ w (fun j x hj => ?_) (Array.getElem?_eq_some_iff.1 hg).1 (by omega) (Nat.le_refl _) ?_).mono fun e w' h => h
  · rw [Nat.zero_add, cell_of_row w gT j _ 9 (0, 0) hg]; exact stC_get hj
  · have : (33 * xs.length : Nat) ≤ 140737488355328 := by omega
    exact Nat.le_trans hl this
theorem jE_bad {L : List Rw} {i : Nat} {r : Rw} (h : L[i]? = some r) (hb : ¬ good r) : jE L = 30 := by
  unfold jE
  rw [if_neg]
  intro ha
  exact hb (ha r (List.mem_of_getElem? h))
theorem good_all {L : List Rw} (h : ∀ (j : Nat) r, j < L.length → L[j]? = some r → good r) : ∀ r ∈ L, good r := by
  intro r hr
  obtain ⟨j, hj, e⟩ := List.getElem_of_mem hr
  exact h j r hj (by rw [List.getElem?_eq_getElem hj, e])
set_option maxRecDepth 20000 in
theorem join_any (v0 : Value) (L : List Rw) (w : World) (h : RdR w v0 L) (hm : L.length ≤ 100000) : Calls Try.prog 16 #[v0] w fun e w' => e = .returned (.tuple #[.string (jS L), .int .i64 (jE L : Int)]) ∧ Below w.heap.size w w' := by
  obtain ⟨a1, c1, rfl, H1⟩ := h.at
  obtain ⟨N, hN⟩ : ∃ N, N = L.length := ⟨_, rfl⟩
  rw [← hN] at H1 hm ⊢
  have HH := fun i h => hide (H1 i h)
  have HN := hide hN
  have hmi : (N : Int) ≤ 100000 := by omega
  have MK := make_any N (by omega)
  have CL := fun (s : ByteArray) (w : World) => hide (classify_all s w)
  have JC := fun (gT : Nat) (xs : List ByteArray) (w : World) hg hN hx => hide (join_call gT xs w hg hN hx)
  obtain ⟨S, hS⟩ : ∃ S, S = jS L := ⟨_, rfl⟩
  obtain ⟨E, hE⟩ : ∃ E : Int, E = (jE L : Int) := ⟨_, rfl⟩
  rw [← hS, ← hE]
  have HS := hide hS
  have HE := hide hE
  clear H1 h hN hm hS hE
  go_enter Try.func16, Try.ntmps16
  go_wp2_with fail
  have G0 := hide (show (w.alloc (Obj.cells (stC [] N) 9)).heap[w.heap.size]? = some (.cells (stC [] N) 9 (0, 0)) from Array.getElem?_push_size)
  have B0 := hide (((Below.refl w.heap.size w).alloc (Nat.le_refl _) (Obj.cells (stC [] N) 9)))
  generalize w.alloc (Obj.cells (stC [] N) 9) = wm at *
  go_loopw [15] (fun v15 wr => ∃ i : Nat, v15 = .int .i64 (i : Int) ∧ i ≤ N ∧ Hid (∀ (j : Nat) r, j < i → L[j]? = some r → good r) ∧ Hid (wr.heap[w.heap.size]? = some (.cells (stC ((L.take i).map Rw.t) N) 9 (0, 0))) ∧ Hid (Below w.heap.size w wr)) (fun v15 _ => N - (intOf v15).toNat)
  case atStart => exact ⟨0, rfl, Nat.zero_le _, hide (fun j _ h => absurd h (Nat.not_lt_zero _)), G0, B0⟩
  case round =>
    obtain ⟨i, rfl, hi, GD, G, BL⟩ := hrel
    by_cases hlt : i < N
    · have hlt' : (i : Int) < N := by omega
      obtain ⟨g1, o1, r, e1, rfl, s1, p0, p1, p2⟩ := (HH i hlt).out
      have p0 := (BL.out.cell (p := ⟨g1, _, none⟩) s1).trans p0
      have p1 := (BL.out.cell (p := ⟨g1, _, none⟩) s1).trans p1
      have p2 := (BL.out.cell (p := ⟨g1, _, none⟩) s1).trans p2
      obtain ⟨k, t, y⟩ := r
      dsimp only at p0 p1 p2
      have E1 := hide e1
      have gl : w.heap.size < wr.heap.size := (Array.getElem?_eq_some_iff.1 G.out).1
      have BA := (Below.refl wr.heap.size wr).alloc (Nat.le_refl _) (Obj.cells #[.int .i64 k, .string t, .int .i64 y] 37)
      have GA := hide (show (wr.alloc (Obj.cells #[.int .i64 k, .string t, .int .i64 y] 37)).heap[w.heap.size]? = some (.cells (stC ((L.take i).map Rw.t) N) 9 (0, 0)) from (BA.block _ gl).trans G.out)
      have SA := hide (show (wr.alloc (Obj.cells #[.int .i64 k, .string t, .int .i64 y] 37)).heap.size = wr.heap.size + 1 from by first | exact Array.size_push _ | simp [World.alloc])
      have CA := hide (rw_cells wr ⟨k, t, y⟩)
      have BLA := hide (BL.out.alloc BL.out.size (Obj.cells #[.int .i64 k, .string t, .int .i64 y] 37))
      have cl := CL t
      have GL := hide gl
      clear e1 s1 gl BA CL HH
      by_cases hg : good ⟨k, t, y⟩
      · obtain ⟨hg1, hg2⟩ := hg
        dsimp only at hg1 hg2
        have GD2 := hide (show ∀ (j : Nat) r, j < i + 1 → L[j]? = some r → good r from fun j r hj hr => by
          by_cases hji : j < i
          · exact GD.out j r hji hr
          · obtain rfl : j = i := by omega
            rw [E1.out] at hr
            obtain rfl := Option.some.inj hr
            exact ⟨hg1, hg2⟩)
        have hE0 : ((Lx.kindE (bn t) : Nat) : Int) = 0 := by rw [hg1]; rfl
        rw [hE0, ← hg2] at cl
        clear hE0 hg1 hg2 GD
        go_wp2_with fail
        refine (cl _).out.mono ?_
        rintro e w3 ⟨rfl, hb⟩
        have q0 : w3.cell? ⟨wr.heap.size, 0, none⟩ = some (.int .i64 k) := (hb.cell (p := ⟨wr.heap.size, 0, none⟩) (show wr.heap.size < _ by rw [SA.out]; omega)).trans (CA.out 0 _ rfl)
        have q1 : w3.cell? ⟨wr.heap.size, 1, none⟩ = some (.string t) := (hb.cell (p := ⟨wr.heap.size, 1, none⟩) (show wr.heap.size < _ by rw [SA.out]; omega)).trans (CA.out 1 _ rfl)
        have G3 := (hb.block w.heap.size (by rw [SA.out]; have := GL.out; omega)).trans GA.out
        have B3 := BLA.out.trans (hb.mono BLA.out.size)
        have hli : ((L.take i).map Rw.t).length = i := by rw [List.length_map, List.length_take]; have := HN.out; omega
        have z0 : w3.cell? ⟨w.heap.size, i, none⟩ = some (.string ⟨#[]⟩) := by
          rw [cell_of_row w3 _ i _ 9 (0, 0) G3]
          have := stC_next (xs := (L.take i).map Rw.t) (N := N) (by omega)
          rwa [hli] at this
        have z1 : w3.frozen? ⟨w.heap.size, i, none⟩ = false := frozen_of_row w3 _ i _ _ G3
        have G4 := hide (show (w3.setCell ⟨w.heap.size, i, none⟩ (.string t)).heap[w.heap.size]? = some (.cells (stC ((L.take (i + 1)).map Rw.t) N) 9 (0, 0)) by
          rw [heap_setCell_same w3 _ i _ _ _ G3]
          have := stC_set (xs := (L.take i).map Rw.t) (N := N) t (by omega)
          rw [hli] at this
          rw [this, List.take_add_one, E1.out, List.map_append]; rfl)
        have B4 := hide (B3.setCell (p := ⟨w.heap.size, i, none⟩) (Nat.le_refl _) (.string t))
        clear hb G3 B3 hli GA SA CA BLA E1 G BL
        go_wp2_with fail
        go_roundw
        case rel => exact ⟨i + 1, by go_num, hlt, GD2, G4, B4⟩
        case measure => simp [intOf]; omega
      · have hj := jE_bad E1.out hg
        have hEv : E = 30 := by rw [HE.out, hj]; rfl
        have hSv : S = ⟨#[]⟩ := by rw [HS.out]; unfold jS; rw [if_neg (by omega)]
        subst hEv
        subst hSv
        have hbad : ((Lx.kindE (bn t) : Nat) : Int) ≠ 0 ∨ ((Lx.kindE (bn t) : Nat) : Int) = 0 ∧ ((Lx.kindK (bn t) : Nat) : Int) ≠ k := by
          by_cases h0 : Lx.kindE (bn t) = 0
          · refine .inr ⟨by rw [h0]; rfl, fun hk => hg ⟨h0, hk.symm⟩⟩
          · left; omega
        clear hj hg HE HS GD E1 G GL JC MK G0
        generalize ((Lx.kindE (bn t) : Nat) : Int) = z at *
        generalize ((Lx.kindK (bn t) : Nat) : Int) = q at *
        rcases hbad with hz | ⟨rfl, hq⟩
        · have hz' : (z != 0) = true := by rw [bne_iff_ne]; exact hz
          clear hz
          go_wp2_with fail
          refine (cl _).out.mono ?_
          rintro e w3 ⟨rfl, hb⟩
          have B3 := hide (BLA.out.trans (hb.mono BLA.out.size))
          clear hb
          go_wp2_with fail
          go_ret2
          exact ⟨rfl, B3.out⟩
        · have hq' : (q != k) = true := by rw [bne_iff_ne]; exact hq
          clear hq
          go_wp2_with fail
          refine (cl _).out.mono ?_
          rintro e w3 ⟨rfl, hb⟩
          have q0 : w3.cell? ⟨wr.heap.size, 0, none⟩ = some (.int .i64 k) := (hb.cell (p := ⟨wr.heap.size, 0, none⟩) (show wr.heap.size < _ by rw [SA.out]; omega)).trans (CA.out 0 _ rfl)
          have B3 := hide (BLA.out.trans (hb.mono BLA.out.size))
          clear hb
          go_wp2_with fail
          go_ret2
          exact ⟨rfl, B3.out⟩
    · have hlt' : ¬ (i : Int) < N := by omega
      have hx : ∀ x ∈ L.map Rw.t, x.size ≤ 32 := by
        intro x hx
        obtain ⟨r, hr, rfl⟩ := List.mem_map.1 hx
        have := kind_len (good_all (fun j r hj h => GD.out j r (by have := HN.out; omega) h) r hr).1
        rwa [bn_len] at this
      have hG : ∀ r ∈ L, good r := good_all (fun j r hj h => GD.out j r (by have := HN.out; omega) h)
      have G3 := G.out
      rw [List.take_of_length_le (by have := HN.out; omega)] at G3
      have hlN : (L.map Rw.t).length = N := by rw [List.length_map]; exact HN.out.symm
      have jc := JC w.heap.size (L.map Rw.t) wr (by rw [hlN]; exact G3) (by rw [hlN]; omega) hx
      rw [hlN] at jc
      by_cases h24 : 1024 < (jB (L.map Rw.t)).size
      · have hEv : E = 5 := by rw [HE.out]; unfold jE; rw [if_pos hG, if_pos h24]; rfl
        have hSv : S = ⟨#[]⟩ := by rw [HS.out]; unfold jS jE; rw [if_pos hG, if_pos h24]; rfl
        subst hEv
        subst hSv
        have h24' : (1024 : Int) < (jB (L.map Rw.t)).size := by omega
        generalize jB (L.map Rw.t) = Z at *
        clear HE HS GD G G3 hx hG h24 CL HH JC MK G0 hlN
        go_wp2_with fail
        refine jc.out.mono ?_
        rintro e w3 ⟨rfl, hb⟩
        have B3 := hide (BL.out.trans (hb.mono BL.out.size))
        clear hb
        go_wp2_with fail
        go_ret2
        exact ⟨rfl, B3.out⟩
      · have hEv : E = 0 := by rw [HE.out]; unfold jE; rw [if_pos hG, if_neg h24]; rfl
        have hSv : S = jB (L.map Rw.t) := by rw [HS.out]; unfold jS jE; rw [if_pos hG, if_neg h24]; rfl
        rw [← hSv] at jc h24
        subst hEv
        have h24' : ¬ (1024 : Int) < S.size := by omega
        clear HE HS GD G G3 hx hG h24 CL HH JC MK G0 hlN hSv
        go_wp2_with fail
        refine jc.out.mono ?_
        rintro e w3 ⟨rfl, hb⟩
        have B3 := hide (BL.out.trans (hb.mono BL.out.size))
        clear hb
        go_wp2_with fail
        go_ret2
        exact ⟨rfl, B3.out⟩

end Go.Proofs.Ytnkjppclhhjdmaa
