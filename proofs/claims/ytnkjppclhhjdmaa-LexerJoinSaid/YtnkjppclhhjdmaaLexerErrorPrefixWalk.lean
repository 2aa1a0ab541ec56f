/-
  LexerErrorPrefix: the walk.
-/
import Derived.Test.YtnkjppclhhjdmaaRows
import Derived.Test.YtnkjppclhhjdmaaLJ
import Derived.Test.YtnkjppclhhjdmaaLK
import Derived.WalkKit
import Derived.WalkSpells
import Derived.StillTactics
import Derived.Laws.Pointers
import Derived.Laws.Strings
import Derived.Laws.Strings2
import Derived.Laws.BytesArg
import Derived.LoopTactic
import Derived.Outline
import Derived.Below
import Derived.Laws.Externs
import Derived.Deep.QuietTactic
import Derived.Deep.RegionWith
import Derived.BigQuiet
import Derived.RegionTactic
import Derived.ChangeAlike
import Derived.OwnWalk
import Derived.Laws.OwnMore
import Derived.Laws.Rows
import Derived.Laws.EntriesVeiled
import Derived.Lib.MinMax
import Derived.Lib.Strings
namespace Go.Proofs.Ytnkjppclhhjdmaa
open Go.RowKit
set_option linter.unusedVariables false
set_option linter.unusedSimpArgs false
set_option linter.unnecessarySimpa false

theorem bn_app (a b : ByteArray) : bn (a ++ b) = bn a ++ bn b := by
  obtain ⟨⟨a⟩⟩ := a
  obtain ⟨⟨b⟩⟩ := b
  simp [bn]
theorem nb_int {c : Nat} (h : Lx.blk c = false) : ((c : Int) != 32) = true ∧ ((c : Int) != 9) = true := by
  unfold Lx.blk at h
  simp at h
  constructor <;> rw [bne_iff_ne] <;> omega
theorem below_undrewN {w w' : World} {k : Nat} (h : Below (w.drewN k).heap.size (w.drewN k) w') : Below w.heap.size w w' := (below_drewN (Below.refl _ _) k).trans h
set_option maxHeartbeats 4000000 in
set_option maxRecDepth 20000 in
theorem lexerErrorPrefix_walk (s0 s1 : ByteArray) (w : World) (w0 : s0.size ≤ maxLen) (w1 : s1.size ≤ maxLen) : Calls Try.prog 6 #[.string s0, .string s1] w fun e w' => e = .returned (.bool true) ∧ Below w.heap.size w w' := by
  obtain ⟨n, hn⟩ : ∃ n : Nat, n = min s0.size 300 := ⟨_, rfl⟩
  have en : min (s0.size : Int) 300 = (n : Int) := by omega
  have hn0 : (n : Int) ≤ s0.size := by omega
  have hn1 : (0 : Int) ≤ n := by omega
  have hsz : (s0.extract 0 n).size ≤ 300 := by rw [ByteArray.size_extract]; omega
  have hsi : ((s0.extract 0 n).size : Int) ≤ 300 := by omega
  obtain ⟨m, hm⟩ : ∃ m : Nat, m = min s1.size 300 := ⟨_, rfl⟩
  have em : min (s1.size : Int) 300 = (m : Int) := by omega
  have hm0 : (m : Int) ≤ s1.size := by omega
  have hm1 : (0 : Int) ≤ m := by omega
  have hsz1 : (s1.extract 0 m).size ≤ 300 := by rw [ByteArray.size_extract]; omega
  have TA := fun (s : ByteArray) (h : s.size ≤ 1024) w => hide (tokenize_any s w (by omega))
  have KN := fun w => hide (known_any w)
  have IX := hide (idxI (s0.extract 0 n))
  clear hn hm
  have HS := hide hsz
  have HS1 := hide hsz1
  clear hsz hsz1
  go_enter Try.func6, Try.ntmps6
  go_wp2_with fail
  go_quiet (fail)
  go_wp2_with fail
  generalize s0.extract 0 n = s at *
  generalize s1.extract 0 m = tl at *
  refine (TA s (by have := HS.out; omega) _).out.mono ?_
  rintro e w1 ⟨v, p, er, rfl, hp, hb⟩
  unfold TkP at hp
  rw [if_neg (by have := HS.out; omega)] at hp
  obtain ⟨rfl, rfl, hL, ho⟩ := hp
  have B1 := hide hb
  clear ho hL hb
  by_cases hE : (Lx.tok 0 (bn s)).2.2 = 0
  · have hE' : ((Lx.tok 0 (bn s)).2.2 : Int) = 0 := by rw [hE]; rfl
    rw [hE']
    generalize ((Lx.tok 0 (bn s)).2.1 : Int) = p at *
    clear hE hE' TA
    go_wp2_with fail
    refine (KN _).out.mono ?_
    rintro e w3 ⟨rfl, hb2⟩
    have B2 := hide (B1.out.trans (hb2.mono B1.out.size))
    clear hb2
    go_wp2_with fail
    go_ret
    exact ⟨rfl, below_undrewN B2.out⟩
  · obtain ⟨q, h1, h2, h3, h4, h50⟩ := Lx.err_of (bn s) 0 hE
    have hz : (((Lx.tok 0 (bn s)).2.2 : Int) == 0) = false := by rw [beq_eq_false_iff_ne]; omega
    rw [Nat.zero_add] at h1
    rw [h1]
    obtain ⟨e, he⟩ : ∃ e, e = Lx.run (fun c => !Lx.blk c) ((bn s).drop q) := ⟨_, rfl⟩
    have h5 := h50 e he (bn tl)
    clear h50 h4
    rw [bn_len] at h2
    have hle : q + e ≤ s.size := by have := Lx.run_le (fun c => !Lx.blk c) ((bn s).drop q); rw [List.length_drop, bn_len, ← he] at this; omega
    have HRun := hide (fun j (hj : j < e) => run_from (p := fun c => !Lx.blk c) (l := bn s) (n := q) (by rw [← he]; exact hj))
    have HStop := hide (run_stop (p := fun c => !Lx.blk c) (l := bn s) (n := q))
    rw [← he] at HStop
    clear he
    obtain ⟨r, hr⟩ : ∃ r, r = q + e := ⟨_, rfl⟩
    rw [← hr] at h5 hle HStop
    have hu : (s.extract 0 r ++ ⟨#[32]⟩ ++ tl).size ≤ 1024 := by
      have := HS.out; have := HS1.out
      rw [ByteArray.size_append, ByteArray.size_append, ByteArray.size_extract]
      have : (⟨#[32]⟩ : ByteArray).size = 1 := rfl
      omega
    have eu : Lx.tok 0 (bn (s.extract 0 r ++ ⟨#[32]⟩ ++ tl)) = Lx.tok 0 (bn s) := by
      rw [bn_app, bn_app, bn_ext, List.drop_zero, Nat.sub_zero, ← h5, List.append_assoc]; rfl
    have ev : (Lx.tok 0 (bn (s.extract 0 q))).2.2 = 0 := by
      rw [bn_ext, List.drop_zero, Nat.sub_zero]; exact h3
    obtain ⟨S1, hS1⟩ : ∃ S1, S1 = s.extract 0 r ++ ⟨#[32]⟩ := ⟨_, rfl⟩
    obtain ⟨S2, hS2⟩ : ∃ S2, S2 = S1 ++ tl := ⟨_, rfl⟩
    have A1 : ∀ w : World, (Op.stringOp .add (s.extract 0 r) ⟨#[32]⟩).run Try.prog w = .ok (.string S1) w := fun w => by
      rw [hS1]; refine run_string_add_sum w _ _ ?_
      have := HS.out
      rw [ByteArray.size_extract]
      have : (⟨#[32]⟩ : ByteArray).size = 1 := rfl
      omega
    have A2 : ∀ w : World, (Op.stringOp .add S1 tl).run Try.prog w = .ok (.string S2) w := fun w => by
      rw [hS2]; refine run_string_add_sum w _ _ ?_
      rw [← ByteArray.size_append, hS1]; omega
    rw [← hS1, ← hS2] at hu eu
    clear hS1 hS2
    have hv : (s.extract 0 q).size ≤ 1024 := by have := HS.out; rw [ByteArray.size_extract]; omega
    have T3 := fun w => TA S2 hu w
    have T2 := fun w => TA (s.extract 0 q) hv w
    have HU := hide hu
    have HV := hide hv
    have EU := hide eu
    have EV := hide ev
    have H1 := hide h1
    clear h1 h3 h5 hu eu hv ev TA HS HS1 hE
    have hq0 : (q : Int) < s.size := by omega
    have hr0 : (r : Int) ≤ s.size := by omega
    have hqr : q ≤ r := by omega
    have HR := hide hr
    clear hr
    go_wp2_with fail
    refine (T2 _).out.mono ?_
    rintro e2 w2 ⟨v2, p2, er2, rfl, hp, hb⟩
    unfold TkP at hp
    rw [if_neg (by have := HV.out; omega)] at hp
    obtain ⟨rfl, rfl, _, _⟩ := hp
    rw [EV.out]
    generalize ((Lx.tok 0 (bn (s.extract 0 q))).2.1 : Int) = p2 at *
    have B2 := hide (B1.out.trans (hb.mono B1.out.size))
    clear hb
    go_wp2_with fail
    go_loop [11] (fun v11 => ∃ (k : Nat), v11 = .int .i64 (k : Int) ∧ q ≤ k ∧ k ≤ r) (fun v11 => r - (intOf v11).toNat)
    case atStart => exact ⟨q, rfl, Nat.le_refl _, hqr⟩
    case round =>
      obtain ⟨k, rfl, hk1, hk2⟩ := hrel
      by_cases hkl : k < r
      · have hk' : (k : Int) < s.size := by omega
        have jx := IX.out (k : Int) k rfl (by omega)
        have hb := HRun.out (k - q) (by have := HR.out; omega)
        rw [Nat.add_sub_cancel' hk1] at hb
        obtain ⟨b1, b2⟩ := nb_int (c := (bn s).getD k 0) (by simpa using hb)
        generalize ((((bn s).getD k 0 : Nat)) : Int) = x at *
        clear hb
        go_wp2_with fail
        go_round
        case rel => exact ⟨k + 1, by go_num, by omega, by omega⟩
        case measure => simp [intOf]; omega
      · obtain rfl : k = r := by omega
        by_cases hks : k < s.size
        · have hk' : (k : Int) < s.size := by omega
          have jx := IX.out (k : Int) k rfl (by omega)
          have hb := HStop.out (by rw [bn_len]; exact hks)
          have hx : (((bn s).getD k 0 : Nat) : Int) = 32 ∨ (((bn s).getD k 0 : Nat) : Int) = 9 := by
            simp [Lx.blk] at hb
            by_cases h : (bn s).getD k 0 = 32
            · left; rw [h]; rfl
            · right; have := hb (by simpa using h); rw [show (bn s).getD k 0 = 9 by simpa using this]; rfl
          clear hb
          clear HRun HStop IX hkl hk1 hk2
          generalize ((((bn s).getD k 0 : Nat)) : Int) = x at *
          rcases hx with rfl | rfl
          · skip
            go_wp2_with fail
            refine (T3 _).out.mono ?_
            rintro e3 w3 ⟨v3, p3, er3, rfl, hp, hb⟩
            unfold TkP at hp
            rw [if_neg (by have := HU.out; omega), EU.out, H1.out] at hp
            obtain ⟨rfl, rfl, _, _⟩ := hp
            have B3 := hide (B2.out.trans (hb.mono B2.out.size))
            clear hb
            generalize ((Lx.tok 0 (bn s)).2.2 : Int) = z at *
            go_wp2_with fail
            refine (KN _).out.mono ?_
            rintro e4 w4 ⟨rfl, hb⟩
            have B4 := hide (B3.out.trans (hb.mono B3.out.size))
            clear hb
            go_wp2_with fail
            go_ret
            exact ⟨rfl, below_undrewN B4.out⟩
          · skip
            go_wp2_with fail
            refine (T3 _).out.mono ?_
            rintro e3 w3 ⟨v3, p3, er3, rfl, hp, hb⟩
            unfold TkP at hp
            rw [if_neg (by have := HU.out; omega), EU.out, H1.out] at hp
            obtain ⟨rfl, rfl, _, _⟩ := hp
            have B3 := hide (B2.out.trans (hb.mono B2.out.size))
            clear hb
            generalize ((Lx.tok 0 (bn s)).2.2 : Int) = z at *
            go_wp2_with fail
            refine (KN _).out.mono ?_
            rintro e4 w4 ⟨rfl, hb⟩
            have B4 := hide (B3.out.trans (hb.mono B3.out.size))
            clear hb
            go_wp2_with fail
            go_ret
            exact ⟨rfl, below_undrewN B4.out⟩
        · have hk' : ¬ (k : Int) < s.size := by omega
          clear HRun HStop IX hkl hk1 hk2 hks
          go_wp2_with fail
          refine (T3 _).out.mono ?_
          rintro e3 w3 ⟨v3, p3, er3, rfl, hp, hb⟩
          unfold TkP at hp
          rw [if_neg (by have := HU.out; omega), EU.out, H1.out] at hp
          obtain ⟨rfl, rfl, _, _⟩ := hp
          have B3 := hide (B2.out.trans (hb.mono B2.out.size))
          clear hb
          generalize ((Lx.tok 0 (bn s)).2.2 : Int) = z at *
          go_wp2_with fail
          refine (KN _).out.mono ?_
          rintro e4 w4 ⟨rfl, hb⟩
          have B4 := hide (B3.out.trans (hb.mono B3.out.size))
          clear hb
          go_wp2_with fail
          go_ret
          exact ⟨rfl, below_undrewN B4.out⟩

end Go.Proofs.Ytnkjppclhhjdmaa
