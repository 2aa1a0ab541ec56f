/-
  Join of the reference.
-/
import Derived.Test.YtnkjppclhhjdmaaRows
import Derived.Test.YtnkjppclhhjdmaaLT
import Derived.WalkKit
import Derived.WalkSpells
import Derived.StillTactics
import Derived.Laws.Pointers
import Derived.Laws.Strings
import Derived.Laws.Strings2
import Derived.Laws.BytesArg
import Derived.LoopTactic
import Derived.Outline
import Derived.Below
import Derived.Laws.Externs
import Derived.Deep.QuietTactic
import Derived.Deep.RegionWith
import Derived.BigQuiet
import Derived.RegionTactic
import Derived.ChangeAlike
import Derived.OwnWalk
import Derived.Laws.OwnMore
import Derived.Laws.Rows
import Derived.Laws.EntriesVeiled
import Derived.Lib.MinMax
import Derived.Lib.Strings
namespace Go.Proofs.Ytnkjppclhhjdmaa
open Go.RowKit
set_option linter.unusedVariables false
set_option linter.unusedSimpArgs false
set_option linter.unnecessarySimpa false
set_option maxHeartbeats 4000000

theorem jB_snoc (xs : List ByteArray) (x : ByteArray) : jB (xs ++ [x]) = if xs = [] then x else jB xs ++ ⟨#[32]⟩ ++ x := by
  rw [← bn_inj]
  cases xs with
  | nil => rw [List.nil_append, if_pos rfl, bn_jB]; simp [jQ, Lx.flat]
  | cons y r =>
    rw [if_neg (by simp), bn_jB, bn_app, bn_app, bn_jB]
    have e : jQ (y :: r ++ [x]) = jQ (y :: r) ++ [([32], bn x)] := by simp [jQ]
    rw [e, Lx.flat_snoc, List.append_assoc]; rfl
theorem jB_size (xs : List ByteArray) (h : ∀ x ∈ xs, x.size ≤ 32) : (jB xs).size ≤ 33 * xs.length := by
  have := jB_len xs h
  unfold jB
  simpa [ByteArray.size] using this
set_option maxRecDepth 20000 in
theorem rjoin_any (v0 : Value) (L : List Rw) (w : World) (h : RdR w v0 L) (hm : L.length ≤ 60) (h60 : ∀ r ∈ L, r.t.size ≤ 60) : Calls Try.prog 18 #[v0] w fun e w' => e = .returned (.tuple #[.string (jS L), .int .i64 (jE L : Int)]) ∧ Below w.heap.size w w' := by
  obtain ⟨a1, c1, rfl, H1⟩ := h.at
  obtain ⟨N, hN⟩ : ∃ N, N = L.length := ⟨_, rfl⟩
  rw [← hN] at H1 hm ⊢
  have HH := fun i h => hide (H1 i h)
  have HN := hide hN
  have H60 := hide h60
  have hmi : (N : Int) ≤ 60 := by omega
  have RK := fun (s : ByteArray) (h : s.size ≤ 100000) (w : World) => hide (rkind_any s w h)
  obtain ⟨S, hS⟩ : ∃ S, S = jS L := ⟨_, rfl⟩
  obtain ⟨E, hE⟩ : ∃ E : Int, E = (jE L : Int) := ⟨_, rfl⟩
  rw [← hS, ← hE]
  have HS := hide hS
  have HE := hide hE
  clear H1 h hN hm hS hE h60
  go_enter Try.func18, Try.ntmps18
  go_wp2_with fail
  go_loopw [4, 5] (fun v4 v5 wr => ∃ (i : Nat) (Z : ByteArray), v4 = .string Z ∧ v5 = .int .i64 (i : Int) ∧ i ≤ N ∧ Hid (∀ (j : Nat) r, j < i → L[j]? = some r → good r) ∧ Hid (Z = jB ((L.take i).map Rw.t)) ∧ Hid (Below w.heap.size w wr)) (fun _ v5 _ => N - (intOf v5).toNat)
  case atStart => exact ⟨0, ⟨#[]⟩, rfl, rfl, Nat.zero_le _, hide (fun j _ h => absurd h (Nat.not_lt_zero _)), hide rfl, hide (Below.refl _ _)⟩
  case round =>
    obtain ⟨i, Z, rfl, rfl, hi, GD, HZ, BL⟩ := hrel
    have GL : ∀ x ∈ (L.take i).map Rw.t, x.size ≤ 32 := by
      intro x hx
      obtain ⟨r, hr, rfl⟩ := List.mem_map.1 hx
      obtain ⟨j, hj, e⟩ := List.getElem_of_mem hr
      have hji : j < i := by rw [List.length_take] at hj; omega
      have := kind_len (GD.out j r hji (by rw [List.getElem_take] at e; rw [List.getElem?_eq_getElem (by rw [List.length_take] at hj; omega), e])).1
      rwa [bn_len] at this
    have SZ := jB_size _ GL
    rw [← HZ.out, List.length_map, List.length_take] at SZ
    have SZ2 : (Z.size : Int) ≤ 1980 := by omega
    have HG := hide GL
    clear GL SZ
    by_cases hlt : i < N
    · have hlt' : (i : Int) < N := by omega
      obtain ⟨g1, o1, r, e1, rfl, s1, p0, p1, p2⟩ := (HH i hlt).out
      have p0 := (BL.out.cell (p := ⟨g1, _, none⟩) s1).trans p0
      have p1 := (BL.out.cell (p := ⟨g1, _, none⟩) s1).trans p1
      have p2 := (BL.out.cell (p := ⟨g1, _, none⟩) s1).trans p2
      have ht60 := H60.out r (List.mem_of_getElem? e1)
      obtain ⟨k, t, y⟩ := r
      dsimp only at p0 p1 p2 ht60
      have E1 := hide e1
      have rk := RK t (by omega)
      have ht : (t.size : Int) ≤ 60 := by omega
      clear e1 s1 RK HH ht60 p2
      by_cases hg : good ⟨k, t, y⟩
      · obtain ⟨hg1, hg2⟩ := hg
        dsimp only at hg1 hg2
        have GD2 := hide (show ∀ (j : Nat) r, j < i + 1 → L[j]? = some r → good r from fun j r hj hr => by
          by_cases hji : j < i
          · exact GD.out j r hji hr
          · obtain rfl : j = i := by omega
            rw [E1.out] at hr
            obtain rfl := Option.some.inj hr
            exact ⟨hg1, hg2⟩)
        have hE0 : ((Lx.kindE (bn t) : Nat) : Int) = 0 := by rw [hg1]; rfl
        rw [hE0, ← hg2] at rk
        have SN := jB_snoc ((L.take i).map Rw.t) t
        have eT : (L.take i).map Rw.t ++ [t] = (L.take (i + 1)).map Rw.t := by rw [List.take_add_one, E1.out, List.map_append]; rfl
        rw [eT, ← HZ.out] at SN
        have e0 : ((L.take i).map Rw.t = []) ↔ i = 0 := by
          rw [List.map_eq_nil_iff, List.take_eq_nil_iff]
          constructor
          · rintro (h | h)
            · exact h
            · rw [h] at E1; have := E1.out; simp at this
          · intro h; exact .inl h
        clear hE0 hg1 hg2 GD eT
        by_cases hi0 : i = 0
        · rw [if_pos (e0.2 hi0)] at SN
          have hZ0 : Z = ⟨#[]⟩ := by rw [HZ.out, e0.2 hi0]; rfl
          have hi0' : ¬ (0 : Int) < (i : Int) := by omega
          have A1 : ∀ w : World, (Op.stringOp .add Z t).run Try.prog w = .ok (.string t) w := fun w => by
            rw [run_string_add w _ _ (by omega) (by omega), hZ0]
            rw [show (⟨#[]⟩ : ByteArray) ++ t = t from bn_inj.1 (by rw [bn_app]; rfl)]
          have HZ2 := hide SN.symm
          clear hi0 hZ0 e0 SN HZ
          go_wp2_with fail
          refine (rk _).out.mono ?_
          rintro e w' ⟨rfl, rfl⟩
          go_wp2_with fail
          go_roundw
          case rel => exact ⟨i + 1, t, rfl, by go_num, hlt, GD2, HZ2, BL⟩
          case measure => simp [intOf]; omega
        · rw [if_neg (fun h => hi0 (e0.1 h))] at SN
          have hi0' : (0 : Int) < (i : Int) := by omega
          have A1 : ∀ w : World, (Op.stringOp .add Z ⟨#[32]⟩).run Try.prog w = .ok (.string (Z ++ ⟨#[32]⟩)) w := fun w => run_string_add w _ _ (by omega) (by decide)
          have hs1 : (⟨#[32]⟩ : ByteArray).size = 1 := rfl
          have A2 : ∀ w : World, (Op.stringOp .add (Z ++ ⟨#[32]⟩) t).run Try.prog w = .ok (.string (Z ++ ⟨#[32]⟩ ++ t)) w := fun w => run_string_add w _ _ (by rw [ByteArray.size_append]; omega) (by omega)
          generalize Z ++ ⟨#[32]⟩ = Z1 at *
          generalize Z1 ++ t = Z2 at *
          have HZ2 := hide SN.symm
          clear hi0 e0 SN HZ hs1
          go_wp2_with fail
          refine (rk _).out.mono ?_
          rintro e w' ⟨rfl, rfl⟩
          go_wp2_with fail
          go_roundw
          case rel => exact ⟨i + 1, Z2, rfl, by go_num, hlt, GD2, HZ2, BL⟩
          case measure => simp [intOf]; omega
      · have hj := jE_bad E1.out hg
        have hEv : E = 30 := by rw [HE.out, hj]; rfl
        have hSv : S = ⟨#[]⟩ := by rw [HS.out]; unfold jS; rw [if_neg (by omega)]
        subst hEv
        subst hSv
        have hbad : ((Lx.kindE (bn t) : Nat) : Int) ≠ 0 ∨ ((Lx.kindE (bn t) : Nat) : Int) = 0 ∧ ((Lx.kindK (bn t) : Nat) : Int) ≠ k := by
          by_cases h0 : Lx.kindE (bn t) = 0
          · refine .inr ⟨by rw [h0]; rfl, fun hk => hg ⟨h0, hk.symm⟩⟩
          · left; omega
        clear hj hg HE HS GD E1
        generalize ((Lx.kindE (bn t) : Nat) : Int) = z at *
        generalize ((Lx.kindK (bn t) : Nat) : Int) = q at *
        rcases hbad with hz | ⟨rfl, hq⟩
        · have hz' : (z != 0) = true := by rw [bne_iff_ne]; exact hz
          clear hz
          go_wp2_with fail
          refine (rk _).out.mono ?_
          rintro e w3 ⟨rfl, rfl⟩
          go_wp2_with fail
          go_ret2
          exact ⟨rfl, BL.out⟩
        · have hq' : (q != k) = true := by rw [bne_iff_ne]; exact hq
          clear hq
          go_wp2_with fail
          refine (rk _).out.mono ?_
          rintro e w3 ⟨rfl, rfl⟩
          go_wp2_with fail
          go_ret2
          exact ⟨rfl, BL.out⟩
    · have hlt' : ¬ (i : Int) < N := by omega
      have hG : ∀ r ∈ L, good r := good_all (fun j r hj h => GD.out j r (by have := HN.out; omega) h)
      have hz := HZ.out
      rw [List.take_of_length_le (by have := HN.out; omega)] at hz
      by_cases h24 : 1024 < Z.size
      · have hJ : jE L = 5 := by unfold jE; rw [if_pos hG, if_pos (by rw [← hz]; exact h24)]
        have hEv : E = 5 := by rw [HE.out, hJ]; rfl
        have hSv : S = ⟨#[]⟩ := by rw [HS.out]; unfold jS; rw [if_neg (by omega)]
        clear hJ
        subst hEv
        subst hSv
        have h24' : (1024 : Int) < Z.size := by omega
        clear HE HS GD hG h24 RK HH hz HZ
        go_wp2_with fail
        go_ret2
        exact ⟨rfl, BL.out⟩
      · have hJ : jE L = 0 := by unfold jE; rw [if_pos hG, if_neg (by rw [← hz]; exact h24)]
        have hEv : E = 0 := by rw [HE.out, hJ]; rfl
        have hSv : S = Z := by rw [HS.out]; unfold jS; rw [if_pos hJ]; exact hz.symm
        clear hJ
        subst hEv
        subst hSv
        have h24' : ¬ (1024 : Int) < S.size := by omega
        clear HE HS GD hG h24 RK HH hz HZ
        go_wp2_with fail
        go_ret2
        exact ⟨rfl, BL.out⟩

end Go.Proofs.Ytnkjppclhhjdmaa
