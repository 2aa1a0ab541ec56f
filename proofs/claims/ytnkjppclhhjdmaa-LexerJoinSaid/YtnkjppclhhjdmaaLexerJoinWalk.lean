/-
  LexerJoin: the walk.
-/
import Derived.Test.YtnkjppclhhjdmaaRows
import Derived.Test.YtnkjppclhhjdmaaLU
import Derived.WalkKit
import Derived.WalkSpells
import Derived.StillTactics
import Derived.Laws.Pointers
import Derived.Laws.Strings
import Derived.Laws.Strings2
import Derived.Laws.BytesArg
import Derived.LoopTactic
import Derived.Outline
import Derived.Below
import Derived.Laws.Externs
import Derived.Deep.QuietTactic
import Derived.Deep.RegionWith
import Derived.BigQuiet
import Derived.RegionTactic
import Derived.ChangeAlike
import Derived.OwnWalk
import Derived.Laws.OwnMore
import Derived.Laws.Rows
import Derived.Laws.EntriesVeiled
import Derived.Lib.MinMax
import Derived.Lib.Strings
namespace Go.Proofs.Ytnkjppclhhjdmaa
open Go.RowKit
set_option linter.unusedVariables false
set_option linter.unusedSimpArgs false
set_option linter.unnecessarySimpa false
set_option maxHeartbeats 4000000

set_option maxRecDepth 20000 in
theorem rsame_any (v1 v2 : Value) (L1 L2 : List Rw) (w : World) (h1 : RdR w v1 L1) (h2 : RdR w v2 L2) (hm : L1.length ≤ 1000000) (hm2 : L2.length ≤ 1000000) : Calls Try.prog 19 #[v1, v2] w fun e w' => e = .returned (.bool (decide (L1.map kt = L2.map kt))) ∧ Below w.heap.size w w' := by
  obtain ⟨a1, c1, rfl, H1⟩ := h1.at
  obtain ⟨a2, c2, rfl, H2⟩ := h2.at
  by_cases hl : L1.length = L2.length
  · rw [← hl] at H2 hm2 ⊢
    obtain ⟨N, hN⟩ : ∃ N, N = L1.length := ⟨_, rfl⟩
    rw [← hN] at H1 H2 hm hm2 ⊢
    have HH1 := fun i h => hide (H1 i h)
    have HH2 := fun i h => hide (H2 i h)
    have HL := hide hl
    have HN := hide hN
    have hmi : (N : Int) ≤ 1000000 := by omega
    obtain ⟨B, hB⟩ : ∃ B, B = decide (L1.map kt = L2.map kt) := ⟨_, rfl⟩
    rw [← hB]
    have HB := hide hB
    clear H1 H2 h1 h2 hl hN hB hm hm2
    go_enter Try.func19, Try.ntmps19
    go_wp2_with fail
    go_loopw [5] (fun v5 wr => ∃ i : Nat, v5 = .int .i64 (i : Int) ∧ i ≤ N ∧ Hid (∀ j r1 r2, j < i → L1[j]? = some r1 → L2[j]? = some r2 → kt r1 = kt r2) ∧ Hid (Below w.heap.size w wr)) (fun v5 _ => N - (intOf v5).toNat)
    case atStart => exact ⟨0, rfl, Nat.zero_le _, hide (fun j _ _ h => absurd h (Nat.not_lt_zero _)), hide (Below.refl _ _)⟩
    case round =>
      obtain ⟨i, rfl, hi, EQ, BL⟩ := hrel
      by_cases hlt : i < N
      · have hlt' : (i : Int) < N := by omega
        obtain ⟨g1, o1, r1, e1, rfl, s1, p0, p1, p2⟩ := (HH1 i hlt).out
        obtain ⟨g2, o2, r2, e2, rfl, s2, q0, q1, q2⟩ := (HH2 i hlt).out
        have p0 := (BL.out.cell (p := ⟨g1, _, none⟩) s1).trans p0
        have p1 := (BL.out.cell (p := ⟨g1, _, none⟩) s1).trans p1
        have q0 := (BL.out.cell (p := ⟨g2, _, none⟩) s2).trans q0
        have q1 := (BL.out.cell (p := ⟨g2, _, none⟩) s2).trans q1
        obtain ⟨k1, t1, y1⟩ := r1
        obtain ⟨k2, t2, y2⟩ := r2
        have E1 := hide e1
        have E2 := hide e2
        dsimp only at p0 p1 q0 q1
        clear HH1 HH2 e1 e2 s1 s2 p2 q2
        by_cases hk : k1 = k2
        · by_cases ht : t1 = t2
          · subst hk
            subst ht
            have EQ2 := hide (show ∀ j r1 r2, j < i + 1 → L1[j]? = some r1 → L2[j]? = some r2 → kt r1 = kt r2 from fun j r1 r2 hj h1 h2 => by
              by_cases hji : j < i
              · exact EQ.out j r1 r2 hji h1 h2
              · obtain rfl : j = i := by omega
                rw [E1.out] at h1; rw [E2.out] at h2
                obtain rfl := Option.some.inj h1
                obtain rfl := Option.some.inj h2
                rfl)
            clear EQ E1 E2
            go_wp2_with fail
            go_quiet (fail)
            go_wp2_with fail
            go_roundw
            case rel => exact ⟨i + 1, by go_num, hlt, EQ2, hide (below_drewN BL.out _)⟩
            case measure => simp [intOf]; omega
          · subst hk
            have hn := toList_ne ht
            have hBf : B = false := by rw [HB.out]; exact decide_eq_false (kt_not E1.out E2.out (fun h => ht (Prod.mk.inj h).2))
            subst hBf
            have hn2 : (t1.toList != t2.toList) = true := by rw [bne, hn]; rfl
            clear ht EQ E1 E2 HB
            go_wp2_with fail
            go_quiet (fail)
            go_wp2_with fail
            go_ret
            exact ⟨rfl, below_drewN BL.out _⟩
        · have hn : (k1 != k2) = true := by rw [bne_iff_ne]; exact hk
          have hBf : B = false := by rw [HB.out]; exact decide_eq_false (kt_not E1.out E2.out (fun h => hk (Prod.mk.inj h).1))
          subst hBf
          clear hk EQ E1 E2 HB
          go_wp2_with fail
          go_quiet (fail)
          go_wp2_with fail
          go_ret
          exact ⟨rfl, below_drewN BL.out _⟩
      · have hlt' : ¬ (i : Int) < N := by omega
        have hBt : B = true := by
          rw [HB.out]
          refine decide_eq_true (kt_all HL.out fun j r1 r2 h1 h2 => EQ.out j r1 r2 ?_ h1 h2)
          have : j < L1.length := by
            rcases Nat.lt_or_ge j L1.length with h | h
            · exact h
            · rw [List.getElem?_eq_none h] at h1; cases h1
          have := HN.out; omega
        subst hBt
        go_wp2_with fail
        go_ret
        exact ⟨rfl, BL.out⟩
  · rw [decide_eq_false (by intro h; apply hl; have := congrArg List.length h; simpa using this)]
    have hne : ((L1.length : Int) != (L2.length : Int)) = true := by rw [bne_iff_ne]; omega
    generalize (L1.length : Int) = x at *
    go_enter Try.func19, Try.ntmps19
    go_wp2_with fail
    go_ret
    exact ⟨rfl, Below.refl _ _⟩
set_option maxRecDepth 20000 in
theorem lexerJoin_walk (a0 : Option Addr) (len0 cap0 : Nat) (a1 : Option Addr) (len1 cap1 : Nat) (w : World) (w0 : IsToks w a0 len0 cap0) (w1 : IsToks w a1 len1 cap1) :
    Calls Try.prog 8 #[.slice a0 len0 cap0, .slice a1 len1 cap1] w fun e w' => e = .returned (.bool true) ∧ Below w.heap.size w w' := by
  obtain ⟨n, hn⟩ : ∃ n : Nat, n = min len0 60 := ⟨_, rfl⟩
  have en : min (len0 : Int) 60 = (n : Int) := by omega
  obtain ⟨L, hL, RD, hsz, CUT⟩ := w0.cut (n := n) (by omega)
  obtain ⟨m, hm⟩ : ∃ m : Nat, m = min len1 60 := ⟨_, rfl⟩
  have em : min (len1 : Int) 60 = (m : Int) := by omega
  obtain ⟨L2, hL2, RD2, hsz2, CUT2⟩ := w1.cut (n := m) (by omega)
  have KN := fun w => hide (known_any w)
  have OA := fun (v0 : Value) (L : List Rw) (w : World) h1 h2 => hide (own_any v0 L w h1 h2)
  have JA := fun (v0 : Value) (L : List Rw) (w : World) h1 h2 => hide (join_any v0 L w h1 h2)
  have EA := fun (v1 v2 : Value) (L1 L2 : List Rw) (w : World) h1 h2 h3 h4 => hide (equal_any v1 v2 L1 L2 w h1 h2 h3 h4)
  have RJ := fun (v0 : Value) (L : List Rw) (w : World) h1 h2 h3 => hide (rjoin_any v0 L w h1 h2 h3)
  have RS := fun (v1 v2 : Value) (L1 L2 : List Rw) (w : World) h1 h2 h3 h4 => hide (rsame_any v1 v2 L1 L2 w h1 h2 h3 h4)
  have HLn := hide (show L.length ≤ 60 ∧ L.length = n by omega)
  have HLm := hide (show L2.length ≤ 60 by omega)
  have hni : (n : Int) ≤ 60 := by omega
  clear hn hm hL hsz w0 hL2 hsz2 w1
  have RD0 := hide RD
  have RE0 := hide RD2
  clear RD RD2
  go_enter Try.func8, Try.ntmps8
  go_wp2_with fail
  go_quiet (fail)
  go_wp2_with fail
  clear CUT CUT2
  have BW := hide (below_drewN (Below.refl w.heap.size w) nq)
  generalize w.drewN nq = wq at *
  have RDq := hide (RD0.out.keep BW.out)
  have REq := hide (RE0.out.keep BW.out)
  obtain ⟨b0, d0, hv, H1⟩ := RDq.out.at
  rw [HLn.out.2] at hv H1
  have HH := fun i h => hide (H1 i h)
  have HV := hide hv
  clear H1
  go_loopw [5] (fun v5 wr => ∃ i : Nat, v5 = .int .i64 (i : Int) ∧ i ≤ n ∧ Hid (∀ (j : Nat) r, j < i → L[j]? = some r → r.t.size ≤ 60) ∧ wr = wq) (fun v5 _ => n - (intOf v5).toNat)
  case atStart => exact ⟨0, rfl, Nat.zero_le _, hide (fun j _ h => absurd h (Nat.not_lt_zero _)), rfl⟩
  case round =>
    obtain ⟨i, rfl, hi, SZ, rfl⟩ := hrel
    by_cases hlt : i < n
    · have hlt' : (i : Int) < n := by omega
      obtain ⟨g1, o1, r, e1, hb0, s1, p0, p1, p2⟩ := (HH i hlt).out
      rw [hb0] at hv
      obtain ⟨rfl, _, rfl⟩ : a0 = some ⟨g1, o1, none⟩ ∧ n = n ∧ cap0 = d0 := by simpa using hv
      obtain ⟨k, t, y⟩ := r
      dsimp only at p0 p1 p2
      have E1 := hide e1
      clear e1 s1 hb0 hv p0 p2
      by_cases h60 : t.size ≤ 60
      · have h60' : ¬ (60 : Int) < t.size := by omega
        have SZ2 := hide (show ∀ (j : Nat) r, j < i + 1 → L[j]? = some r → r.t.size ≤ 60 from fun j r hj hr => by
          by_cases hji : j < i
          · exact SZ.out j r hji hr
          · obtain rfl : j = i := by omega
            rw [E1.out] at hr
            obtain rfl := Option.some.inj hr
            exact h60)
        clear h60
        go_wp2_with fail
        go_roundw
        case rel => exact ⟨i + 1, by go_num, hlt, SZ2, trivial⟩
        case measure => simp [intOf]; omega
      · have h60' : (60 : Int) < t.size := by omega
        go_wp2_with fail
        refine (KN _).out.mono ?_
        rintro e w3 ⟨rfl, hb⟩
        have B3 := hide (BW.out.trans (hb.mono BW.out.size))
        clear hb
        go_wp2_with fail
        go_ret
        exact ⟨rfl, B3.out⟩
    · have hlt' : ¬ (i : Int) < n := by omega
      have h60 : ∀ r ∈ L, r.t.size ≤ 60 := by
        intro r hr
        obtain ⟨j, hj, e⟩ := List.getElem_of_mem hr
        exact SZ.out j r (by have := HLn.out; omega) (by rw [List.getElem?_eq_getElem hj, e])
      have H60 := hide h60
      clear h60 hv HH
      go_wp2_with fail
      generalize hva : (Value.slice a0 n cap0) = va at *
      generalize (Value.slice a1 m cap1) = vb at *
      refine (OA va L _ RDq.out (by have := HLn.out; omega)).out.mono ?_
      rintro e w1 ⟨v1, rfl, ho, hb⟩
      have B1 := hide (BW.out.trans (hb.mono BW.out.size))
      have RD1 := hide (RDq.out.keep hb)
      have RE1 := hide (REq.out.keep hb)
      have RO1 := hide ho.rd
      clear ho hb
      go_wp2_with fail
      refine (JA v1 L _ RO1.out (by have := HLn.out; omega)).out.mono ?_
      rintro e w2 ⟨rfl, hb⟩
      have B2 := hide (B1.out.trans (hb.mono B1.out.size))
      have RD2 := hide (RD1.out.keep hb)
      have RE2 := hide (RE1.out.keep hb)
      clear hb RO1 RD1 RE1 B1
      go_wp2_with fail
      refine (RJ va L _ RD2.out HLn.out.1 H60.out).out.mono ?_
      rintro e w3 ⟨rfl, hb⟩
      have B3 := hide (B2.out.trans (hb.mono B2.out.size))
      have RD3 := hide (RD2.out.keep hb)
      have RE3 := hide (RE2.out.keep hb)
      clear hb RD2 RE2 B2
      generalize jS L = U at *
      generalize ((jE L : Nat) : Int) = J at *
      go_wp2_with fail
      refine (KN _).out.mono ?_
      rintro e w4 ⟨rfl, hb⟩
      have B4 := hide (B3.out.trans (hb.mono B3.out.size))
      have RD4 := hide (RD3.out.keep hb)
      have RE4 := hide (RE3.out.keep hb)
      clear hb RD3 RE3 B3
      go_wp2_with fail
      refine (OA va L _ RD4.out (by have := HLn.out; omega)).out.mono ?_
      rintro e w5 ⟨v5, rfl, ho, hb⟩
      have B5 := hide (B4.out.trans (hb.mono B4.out.size))
      have RD5 := hide (RD4.out.keep hb)
      have RE5 := hide (RE4.out.keep hb)
      have RO5 := hide ho.rd
      clear ho hb RD4 RE4 B4
      go_wp2_with fail
      refine (OA vb L2 _ RE5.out (by have := HLm.out; omega)).out.mono ?_
      rintro e w6 ⟨v6, rfl, ho, hb⟩
      have B6 := hide (B5.out.trans (hb.mono B5.out.size))
      have RD6 := hide (RD5.out.keep hb)
      have RE6 := hide (RE5.out.keep hb)
      have RO6 := hide (RO5.out.keep hb)
      have RP6 := hide ho.rd
      clear ho hb RD5 RE5 B5 RO5
      have ea := EA v5 v6 L L2 w6 RO6.out RP6.out (by have := HLn.out; omega) (by have := HLm.out; omega)
      have rs := fun W (h : Below w6.heap.size w6 W) => RS va vb L L2 W (RD6.out.keep h) (RE6.out.keep h) (by have := HLn.out; omega) (by have := HLm.out; omega)
      generalize decide (L.map kt = L2.map kt) = b at *
      clear RD6 RE6 RO6 RP6
      go_wp2_with fail
      refine ea.out.mono ?_
      rintro e w7 ⟨rfl, hb⟩
      have B7 := hide (B6.out.trans (hb.mono B6.out.size))
      have rs7 := rs w7 hb
      clear hb ea rs B6
      go_wp2_with fail
      refine rs7.out.mono ?_
      rintro e w8 ⟨rfl, hb⟩
      have B8 := hide (B7.out.trans (hb.mono B7.out.size))
      clear hb rs7
      go_wp2_with fail
      go_ret
      exact ⟨rfl, B8.out⟩

end Go.Proofs.Ytnkjppclhhjdmaa
