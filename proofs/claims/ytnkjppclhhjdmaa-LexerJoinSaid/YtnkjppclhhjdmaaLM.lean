/-
  Equal.
-/
import Derived.Test.YtnkjppclhhjdmaaRows
import Derived.Test.YtnkjppclhhjdmaaLL
import Derived.WalkKit
import Derived.WalkSpells
import Derived.StillTactics
import Derived.Laws.Pointers
import Derived.Laws.Strings
import Derived.Laws.Strings2
import Derived.Laws.BytesArg
import Derived.LoopTactic
import Derived.Outline
import Derived.Below
import Derived.Laws.Externs
import Derived.Deep.QuietTactic
import Derived.Deep.RegionWith
import Derived.BigQuiet
import Derived.RegionTactic
import Derived.ChangeAlike
import Derived.OwnWalk
import Derived.Laws.OwnMore
import Derived.Laws.Rows
import Derived.Laws.EntriesVeiled
import Derived.Lib.MinMax
import Derived.Lib.Strings
namespace Go.Proofs.Ytnkjppclhhjdmaa
open Go.RowKit
set_option linter.unusedVariables false
set_option linter.unusedSimpArgs false
set_option linter.unnecessarySimpa false
set_option maxHeartbeats 4000000

theorem RdR.at {w : World} {v : Value} {L : List Rw} (h : RdR w v L) : ∃ (a : Option Addr) (c : Nat), v = .slice a L.length c ∧ ∀ i, i < L.length → ∃ g o r, L[i]? = some r ∧ a = some ⟨g, o, none⟩ ∧ g < w.heap.size ∧
    w.cell? ⟨g, o + i * 3, none⟩ = some (.int .i64 r.k) ∧ w.cell? ⟨g, o + i * 3 + 1, none⟩ = some (.string r.t) ∧ w.cell? ⟨g, o + i * 3 + 2, none⟩ = some (.int .i64 r.p) := by
  obtain ⟨a, c, hv, hc⟩ := h
  refine ⟨a, c, hv, fun i hi => ?_⟩
  obtain ⟨g, o, h⟩ := hc i _ (List.getElem?_eq_getElem hi)
  exact ⟨g, o, _, List.getElem?_eq_getElem hi, h⟩
theorem kt_all {L1 L2 : List Rw} (hl : L1.length = L2.length) (h : ∀ (i : Nat) (r1 r2 : Rw), L1[i]? = some r1 → L2[i]? = some r2 → kt r1 = kt r2) : L1.map kt = L2.map kt := by
  apply List.ext_getElem?
  intro i
  rw [List.getElem?_map, List.getElem?_map]
  by_cases hi : i < L1.length
  · rw [List.getElem?_eq_getElem hi, List.getElem?_eq_getElem (hl ▸ hi)]
    simp only [Option.map_some, Option.some.injEq]
    exact h i _ _ (List.getElem?_eq_getElem hi) (List.getElem?_eq_getElem (hl ▸ hi))
  · rw [List.getElem?_eq_none (by omega), List.getElem?_eq_none (by omega)]
theorem kt_not {L1 L2 : List Rw} {i : Nat} {r1 r2 : Rw} (h1 : L1[i]? = some r1) (h2 : L2[i]? = some r2) (h : kt r1 ≠ kt r2) : L1.map kt ≠ L2.map kt := by
  intro e
  have : (L1.map kt)[i]? = (L2.map kt)[i]? := by rw [e]
  rw [List.getElem?_map, List.getElem?_map, h1, h2] at this
  exact h (Option.some.inj this)
set_option maxRecDepth 20000 in
theorem eqf_any (v1 v2 : Value) (L1 L2 : List Rw) (w : World) (h1 : RdR w v1 L1) (h2 : RdR w v2 L2) (hm : L1.length ≤ 1000000) (hm2 : L2.length ≤ 1000000) : Calls Try.prog 38 #[v1, v2, .func (.func 39) #[] #[]] w fun e w' => e = .returned (.bool (decide (L1.map kt = L2.map kt))) ∧ Below w.heap.size w w' := by
  obtain ⟨a1, c1, rfl, H1⟩ := h1.at
  obtain ⟨a2, c2, rfl, H2⟩ := h2.at
  by_cases hl : L1.length = L2.length
  · have EC := fun (k1 k2 p1 p2 : Int) (t1 t2 : ByteArray) (w : World) => hide (eqc_any k1 k2 p1 p2 t1 t2 w)
    rw [← hl] at H2 hm2 ⊢
    obtain ⟨N, hN⟩ : ∃ N, N = L1.length := ⟨_, rfl⟩
    rw [← hN] at H1 H2 hm hm2 ⊢
    have HH1 := fun i h => hide (H1 i h)
    have HH2 := fun i h => hide (H2 i h)
    have HL := hide hl
    have HN := hide hN
    have hmi : (N : Int) ≤ 1000000 := by omega
    obtain ⟨B, hB⟩ : ∃ B, B = decide (L1.map kt = L2.map kt) := ⟨_, rfl⟩
    rw [← hB]
    have HB := hide hB
    clear H1 H2 h1 h2 hl hN hB hm hm2
    go_enter Try.func38, Try.ntmps38
    go_wp2_with fail
    go_loopw [17] (fun v17 wr => ∃ i : Nat, v17 = .int .i64 (i : Int) ∧ i ≤ N ∧ Hid (∀ j r1 r2, j < i → L1[j]? = some r1 → L2[j]? = some r2 → kt r1 = kt r2) ∧ Hid (Below w.heap.size w wr)) (fun v17 _ => N - (intOf v17).toNat)
    case atStart => exact ⟨0, rfl, Nat.zero_le _, hide (fun j _ _ h => absurd h (Nat.not_lt_zero _)), hide (Below.refl _ _)⟩
    case round =>
      obtain ⟨i, rfl, hi, EQ, BL⟩ := hrel
      by_cases hlt : i < N
      · have hlt' : (i : Int) < N := by omega
        obtain ⟨g1, o1, r1, e1, rfl, s1, p0, p1, p2⟩ := (HH1 i hlt).out
        obtain ⟨g2, o2, r2, e2, rfl, s2, q0, q1, q2⟩ := (HH2 i hlt).out
        have p0 := (BL.out.cell (p := ⟨g1, _, none⟩) s1).trans p0
        have p1 := (BL.out.cell (p := ⟨g1, _, none⟩) s1).trans p1
        have p2 := (BL.out.cell (p := ⟨g1, _, none⟩) s1).trans p2
        have q0 := (BL.out.cell (p := ⟨g2, _, none⟩) s2).trans q0
        have q1 := (BL.out.cell (p := ⟨g2, _, none⟩) s2).trans q1
        have q2 := (BL.out.cell (p := ⟨g2, _, none⟩) s2).trans q2
        obtain ⟨k1, t1, y1⟩ := r1
        obtain ⟨k2, t2, y2⟩ := r2
        have B1 := (Below.refl wr.heap.size wr).alloc (Nat.le_refl _) (Obj.cells #[.int .i64 k1, .string t1, .int .i64 y1] 37)
        have z2 : g2 < wr.heap.size := by have := BL.out.size; omega
        have q0 := (B1.cell (p := ⟨g2, _, none⟩) z2).trans q0
        have q1 := (B1.cell (p := ⟨g2, _, none⟩) z2).trans q1
        have q2 := (B1.cell (p := ⟨g2, _, none⟩) z2).trans q2
        have B2 := hide (B1.alloc B1.size (Obj.cells #[.int .i64 k2, .string t2, .int .i64 y2] 37))
        have ec := EC k1 k2 y1 y2 t1 t2
        have E1 := hide e1
        have E2 := hide e2
        dsimp only at p0 p1 p2 q0 q1 q2
        clear HH1 HH2 e1 e2 s1 s2 z2 B1 EC
        by_cases hk : (k1, t1) = (k2, t2)
        · rw [decide_eq_true hk] at ec
          have EQ2 := hide (show ∀ j r1 r2, j < i + 1 → L1[j]? = some r1 → L2[j]? = some r2 → kt r1 = kt r2 from fun j r1 r2 hj h1 h2 => by
            by_cases hji : j < i
            · exact EQ.out j r1 r2 hji h1 h2
            · obtain rfl : j = i := by omega
              rw [E1.out] at h1; rw [E2.out] at h2
              obtain rfl := Option.some.inj h1
              obtain rfl := Option.some.inj h2
              exact hk)
          clear hk EQ E1 E2
          go_wp2_with fail
          refine (ec _).out.mono ?_
          rintro e w3 ⟨rfl, hb⟩
          have B3 := hide (BL.out.trans ((B2.out.trans (hb.mono B2.out.size)).mono BL.out.size))
          clear hb
          go_wp2_with fail
          go_roundw
          case rel => exact ⟨i + 1, by go_num, hlt, EQ2, B3⟩
          case measure => simp [intOf]; omega
        · rw [decide_eq_false hk] at ec
          have hBf : B = false := by rw [HB.out]; exact decide_eq_false (kt_not E1.out E2.out hk)
          clear hk EQ E1 E2 HB
          subst hBf
          go_wp2_with fail
          refine (ec _).out.mono ?_
          rintro e w3 ⟨rfl, hb⟩
          have B3 := hide (BL.out.trans ((B2.out.trans (hb.mono B2.out.size)).mono BL.out.size))
          clear hb
          go_wp2_with fail
          go_ret
          exact ⟨rfl, B3.out⟩
      · have hlt' : ¬ (i : Int) < N := by omega
        have hBt : B = true := by
          rw [HB.out]
          refine decide_eq_true (kt_all HL.out fun j r1 r2 h1 h2 => EQ.out j r1 r2 ?_ h1 h2)
          have : j < L1.length := by
            rcases Nat.lt_or_ge j L1.length with h | h
            · exact h
            · rw [List.getElem?_eq_none h] at h1; cases h1
          have := HN.out; omega
        subst hBt
        go_wp2_with fail
        go_ret
        exact ⟨rfl, BL.out⟩
  · rw [decide_eq_false (by intro h; apply hl; have := congrArg List.length h; simpa using this)]
    have hne : ((L1.length : Int) != (L2.length : Int)) = true := by rw [bne_iff_ne]; omega
    generalize (L1.length : Int) = x at *
    go_enter Try.func38, Try.ntmps38
    go_wp2_with fail
    go_ret
    exact ⟨rfl, Below.refl _ _⟩
theorem equal_any (v1 v2 : Value) (L1 L2 : List Rw) (w : World) (h1 : RdR w v1 L1) (h2 : RdR w v2 L2) (hm : L1.length ≤ 1000000) (hm2 : L2.length ≤ 1000000) : Calls Try.prog 15 #[v1, v2] w fun e w' => e = .returned (.bool (decide (L1.map kt = L2.map kt))) ∧ Below w.heap.size w w' := by
  have EF := hide (eqf_any v1 v2 L1 L2 w h1 h2 hm hm2)
  clear h1 h2
  go_enter Try.func15, Try.ntmps15
  go_wp2_with fail
  refine EF.out.mono ?_
  rintro e w' ⟨rfl, hb⟩
  have B := hide hb
  clear hb
  go_wp2_with fail
  go_ret
  exact ⟨rfl, B.out⟩

end Go.Proofs.Ytnkjppclhhjdmaa
