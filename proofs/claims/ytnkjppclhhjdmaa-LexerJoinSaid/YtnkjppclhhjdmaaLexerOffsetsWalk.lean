/-
  LexerOffsets: the walk.
-/
import Derived.Test.YtnkjppclhhjdmaaRows
import Derived.Test.YtnkjppclhhjdmaaLJ
import Derived.Test.YtnkjppclhhjdmaaLK
import Derived.WalkKit
import Derived.WalkSpells
import Derived.StillTactics
import Derived.Laws.Pointers
import Derived.Laws.Strings
import Derived.Laws.Strings2
import Derived.Laws.BytesArg
import Derived.LoopTactic
import Derived.Outline
import Derived.Below
import Derived.Laws.Externs
import Derived.Deep.QuietTactic
import Derived.Deep.RegionWith
import Derived.BigQuiet
import Derived.RegionTactic
import Derived.ChangeAlike
import Derived.OwnWalk
import Derived.Laws.OwnMore
import Derived.Laws.Rows
import Derived.Laws.EntriesVeiled
import Derived.Lib.MinMax
import Derived.Lib.Strings
namespace Go.Proofs.Ytnkjppclhhjdmaa
open Go.RowKit
set_option linter.unusedVariables false
set_option linter.unusedSimpArgs false
set_option linter.unnecessarySimpa false

theorem bs_len (l : List Nat) : (bs l).size = l.length := by simp [bs, ByteArray.size]
theorem OwT.rows {w : World} {base : Nat} {v : Value} {L : List Lx.Tk} (h : OwT w base v L) : ∃ (a : Option Addr) (c : Nat), v = .slice a L.length c ∧ ∀ k, k < L.length → ∃ g, a = some ⟨g, 0, none⟩ ∧ g < w.heap.size ∧
    w.cell? ⟨g, k * 3, none⟩ = some (.int .i64 ((L.getD k ⟨0, [], 0⟩).kind : Int)) ∧ w.cell? ⟨g, k * 3 + 1, none⟩ = some (.string (bs (L.getD k ⟨0, [], 0⟩).text)) ∧ w.cell? ⟨g, k * 3 + 2, none⟩ = some (.int .i64 ((L.getD k ⟨0, [], 0⟩).pos : Int)) := by
  by_cases h0 : L.length = 0
  · obtain ⟨a1, c1, rfl⟩ : ∃ a c, v = .slice a 0 c := by
      rcases h.2 with ⟨hv, _⟩ | ⟨g, cap, cur, hv, _⟩
      · exact ⟨_, _, hv⟩
      · exact ⟨_, _, by rw [hv, h0]⟩
    exact ⟨a1, c1, by rw [h0], fun k hk => by omega⟩
  · obtain ⟨g, cap, rfl, hg, hc⟩ := h.row h0
    refine ⟨_, _, rfl, fun k hk => ⟨g, rfl, hg, hc _ _ (by rw [← Nat.add_zero (k * 3), tkL_at 0 hk (by decide)]; rfl), hc _ _ (by rw [tkL_at 1 hk (by decide)]; rfl), hc _ _ (by rw [tkL_at 2 hk (by decide)]; rfl)⟩⟩
theorem empty_no {s : ByteArray} (h : 0 < s.size) : s.toList.isEmpty = false := by
  rw [List.isEmpty_eq_false_iff]
  intro e
  rw [Lib.toList_data] at e
  have : s = ⟨#[]⟩ := ByteArray.ext (Array.toList_inj.1 (e.trans rfl))
  subst this
  exact absurd h (by decide)
theorem blk_int {c : Nat} (h : Lx.blk c = true) : (c : Int) = 32 ∨ (c : Int) = 9 := by
  unfold Lx.blk at h
  simp at h
  omega
theorem getD_drop_cons {L : List Lx.Tk} {i : Nat} (h : i < L.length) : L.drop i = L.getD i ⟨0, [], 0⟩ :: L.drop (i + 1) := by
  rw [List.getD_eq_getElem?_getD, List.getElem?_eq_getElem h, Option.getD_some]; exact (List.getElem_cons_drop h).symm
set_option maxHeartbeats 4000000 in
set_option maxRecDepth 20000 in
theorem lexerOffsets_walk (s0 : ByteArray) (w : World) (w0 : s0.size ≤ maxLen) : Calls Try.prog 5 #[.string s0] w fun e w' => e = .returned (.bool true) ∧ Below w.heap.size w w' := by
  obtain ⟨n, hn⟩ : ∃ n : Nat, n = min s0.size 1024 := ⟨_, rfl⟩
  have en : min (s0.size : Int) 1024 = (n : Int) := by omega
  have hn0 : (n : Int) ≤ s0.size := by omega
  have hn1 : (0 : Int) ≤ n := by omega
  have hsz : (s0.extract 0 n).size ≤ 1024 := by rw [ByteArray.size_extract]; omega
  have hsi : ((s0.extract 0 n).size : Int) ≤ 1024 := by omega
  have TA := fun w => hide (tokenize_any (s0.extract 0 n) w (by omega))
  have KN := fun w => hide (known_any w)
  have IX := hide (idxI (s0.extract 0 n))
  clear hn
  have HS := hide hsz
  clear hsz
  go_enter Try.func5, Try.ntmps5
  go_wp2_with fail
  generalize s0.extract 0 n = s at *
  refine (TA _).out.mono ?_
  rintro e w1 ⟨v, p, er, rfl, hp, hb⟩
  unfold TkP at hp
  rw [if_neg (by have := HS.out; omega)] at hp
  obtain ⟨rfl, rfl, hL, ho⟩ := hp
  have B1 := hide hb
  by_cases hE : (Lx.tok 0 (bn s)).2.2 = 0
  · have G0 := hide (Lx.gap_of (bn s) 0 hE)
    have hE' : ((Lx.tok 0 (bn s)).2.2 : Int) = 0 := by rw [hE]; rfl
    rw [hE']
    generalize ((Lx.tok 0 (bn s)).2.1 : Int) = p at *
    generalize (Lx.tok 0 (bn s)).1 = L at *
    obtain ⟨a, c, rfl, hr⟩ := ho.rows
    have HR := fun k h => hide (hr k h)
    clear hr ho TA hE hE' hb
    obtain ⟨N, hN⟩ : ∃ N, N = L.length := ⟨_, rfl⟩
    have hNi : (N : Int) ≤ 1024 := by omega
    rw [← hN] at HR hL ⊢
    have HN := hide hN
    clear hN
    go_wp2_with fail
    go_loopw [6, 7] (fun v6 v7 wr => ∃ (q i : Nat), v6 = .int .i64 (q : Int) ∧ v7 = .int .i64 (i : Int) ∧ i ≤ N + 1 ∧ Hid (i ≤ N → q ≤ s.size ∧ Lx.Gap q ((bn s).drop q) (L.drop i)) ∧ Hid (Below w1.heap.size w1 wr)) (fun _ v7 _ => N + 2 - (intOf v7).toNat)
    case atStart => exact ⟨0, 0, rfl, rfl, Nat.zero_le _, hide (fun _ => ⟨Nat.zero_le _, by rw [List.drop_zero, List.drop_zero]; exact G0.out⟩), hide (Below.refl _ _)⟩
    case round =>
      obtain ⟨q, i, rfl, rfl, hi, GQ, BL⟩ := hrel
      by_cases hi1 : i = N + 1
      · have hi2 : ¬ (i : Int) ≤ N := by omega
        clear hi1 GQ
        go_wp2_with fail
        refine (KN _).out.mono ?_
        rintro e w3 ⟨rfl, hb2⟩
        have B4 := hide (B1.out.trans ((BL.out.mono B1.out.size).trans (hb2.mono (Nat.le_trans B1.out.size BL.out.size))))
        clear hb2
        go_wp2_with fail
        go_ret
        exact ⟨rfl, B4.out⟩
      obtain ⟨hq, G⟩ := GQ.out (by omega)
      have G := hide G
      have hi : i ≤ N := by omega
      clear hi1 GQ
      have hq0 : (q : Int) ≤ s.size := by omega
      have hi0 : (i : Int) ≤ N := by omega
      by_cases hlt : i < N
      · have hlt' : (i : Int) < N := by omega
        have hne' : ((i : Int) == N) = false := by rw [beq_eq_false_iff_ne]; omega
        obtain ⟨g, rfl, hg, _, c1, c2⟩ := (HR i hlt).out
        have G' := G.out
        rw [getD_drop_cons (by rw [← HN.out]; exact hlt)] at G'
        have GS := Lx.gap_step G' (by rw [bn_len]; exact hq)
        generalize L.getD i ⟨0, [], 0⟩ = t at *
        clear G' G HR
        obtain ⟨g1, g2, g3, g4, g5, g6, _, _⟩ := GS
        have et : bs t.text = s.extract t.pos (t.pos + t.text.length) := by
          rw [g3, show (t.pos + ((bn s).drop t.pos |>.take t.text.length).length) = t.pos + t.text.length by rw [← g3], ← bs_bn (s.extract _ _), bn_ext, Nat.add_sub_cancel_left]
        rw [et] at c1
        rw [bn_len] at g5
        have hl : (s.extract t.pos (t.pos + t.text.length)).size = t.text.length := by rw [← et, bs_len]
        have HB := hide g2
        have HG := hide g6
        generalize t.pos = P at *
        obtain ⟨ℓ, hℓ⟩ : ∃ ℓ, ℓ = t.text.length := ⟨_, rfl⟩
        rw [← hℓ] at c1 g4 g5 HG hl
        clear g2 g3 g6 et hℓ
        obtain ⟨r, hr⟩ : ∃ r, r = P + ℓ := ⟨_, rfl⟩
        rw [← hr] at c1 g5 HG hl
        have hri : (P : Int) + (ℓ : Int) = (r : Int) := by omega
        have he := empty_no (s := s.extract P r) (by omega)
        have hl' : min r s.size - P = ℓ := by rw [ByteArray.size_extract] at hl; exact hl
        have p0 : (P : Int) ≤ s.size := by omega
        have p1 : (q : Int) ≤ (P : Int) := by omega
        have p2 : (r : Int) ≤ s.size := by omega
        have p3 : (P : Int) ≤ (r : Int) := by omega
        have c1 := (BL.out.cell (p := ⟨g, i * 3 + 1, none⟩) hg).trans c1
        have c2 := (BL.out.cell (p := ⟨g, i * 3 + 2, none⟩) hg).trans c2
        have HQ := hide g1
        have HP := hide g5
        have p4 : r ≤ s.size := g5
        have p5 : P ≤ r := by omega
        have p6 : r - P = ℓ := by omega
        clear hr hl g1 g4 g5
        go_wp2_with fail
        go_loop [9] (fun v9 => ∃ (k : Nat), v9 = .int .i64 (k : Int) ∧ q ≤ k ∧ k ≤ P) (fun v9 => P - (intOf v9).toNat)
        case atStart => exact ⟨q, rfl, Nat.le_refl _, HQ.out⟩
        case round =>
          obtain ⟨k, rfl, hk1, hk2⟩ := hrel
          by_cases hkl : k < P
          · have hk' : (k : Int) < P := by omega
            have jx := IX.out (k : Int) k rfl (by have := HP.out; omega)
            have hx := blk_int (HB.out k hk1 hkl)
            generalize ((((bn s).getD k 0 : Nat)) : Int) = x at *
            rcases hx with rfl | rfl
            · go_wp2_with fail
              go_round
              case rel => exact ⟨k + 1, by go_num, by omega, by omega⟩
              case measure => simp [intOf]; omega
            · go_wp2_with fail
              go_round
              case rel => exact ⟨k + 1, by go_num, by omega, by omega⟩
              case measure => simp [intOf]; omega
          · have hk' : ¬ (k : Int) < P := by omega
            go_wp2_with fail
            go_quiet (fail)
            go_wp2_with fail
            go_roundw
            case rel => exact ⟨r, i + 1, by go_num, by go_num, by omega, hide (fun _ => ⟨HP.out, HG.out⟩), hide (below_drewN BL.out _)⟩
            case measure => simp [intOf]; omega
      · have hlt' : ¬ (i : Int) < N := by omega
        have hiN : i = N := by omega
        subst hiN
        have G' := G.out
        rw [show L.drop i = [] by rw [HN.out, List.drop_length]] at G'
        obtain ⟨k0, k1, k2, k3, k4⟩ := Lx.gap_end G' (by rw [bn_len]; exact hq)
        rw [bn_len] at k2 k4
        have HB := hide k3
        have HC := hide k4
        clear k3 k4 G' G HR
        go_wp2_with fail
        go_loop [9] (fun v9 => ∃ (k : Nat), v9 = .int .i64 (k : Int) ∧ q ≤ k ∧ k ≤ k0) (fun v9 => k0 - (intOf v9).toNat)
        case atStart => exact ⟨q, rfl, Nat.le_refl _, k1⟩
        case round =>
          obtain ⟨k, rfl, hk1, hk2⟩ := hrel
          by_cases hkl : k < k0
          · have hk' : (k : Int) < s.size := by omega
            have jx := IX.out (k : Int) k rfl (by omega)
            have hx := blk_int (HB.out k hk1 hkl)
            generalize ((((bn s).getD k 0 : Nat)) : Int) = x at *
            rcases hx with rfl | rfl
            · go_wp2_with fail
              go_round
              case rel => exact ⟨k + 1, by go_num, by omega, by omega⟩
              case measure => simp [intOf]; omega
            · go_wp2_with fail
              go_round
              case rel => exact ⟨k + 1, by go_num, by omega, by omega⟩
              case measure => simp [intOf]; omega
          · obtain rfl : k = k0 := by omega
            have BE := hide (below_drewN BL.out 0)
            by_cases hks : k < s.size
            · have hk' : (k : Int) < s.size := by omega
              have jx := IX.out (k : Int) k rfl (by omega)
              rw [HC.out hks] at jx
              go_wp2_with fail
              go_roundw
              case rel => exact ⟨q, i + 1, by go_num, by go_num, by omega, hide (fun h => by omega), BL⟩
              case measure => simp [intOf]
            · have hk' : ¬ (k : Int) < s.size := by omega
              go_wp2_with fail
              go_roundw
              case rel => exact ⟨q, i + 1, by go_num, by go_num, by omega, hide (fun h => by omega), BL⟩
              case measure => simp [intOf]
  · have hz : (((Lx.tok 0 (bn s)).2.2 : Int) != 0) = true := by rw [bne_iff_ne]; omega
    generalize ((Lx.tok 0 (bn s)).2.2 : Int) = z at *
    generalize ((Lx.tok 0 (bn s)).2.1 : Int) = p at *
    clear ho TA hL hE
    go_wp2_with fail
    refine (KN _).out.mono ?_
    rintro e w3 ⟨rfl, hb2⟩
    have B2 := hide (B1.out.trans (hb2.mono B1.out.size))
    clear hb hb2
    go_wp2_with fail
    go_ret
    exact ⟨rfl, B2.out⟩

end Go.Proofs.Ytnkjppclhhjdmaa
