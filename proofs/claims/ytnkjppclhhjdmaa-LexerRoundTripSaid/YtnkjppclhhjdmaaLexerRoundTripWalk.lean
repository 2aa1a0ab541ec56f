/-
  LexerRoundTrip: the walk.
-/
import Derived.Test.YtnkjppclhhjdmaaRows
import Derived.Test.YtnkjppclhhjdmaaLT
import Derived.WalkKit
import Derived.WalkSpells
import Derived.StillTactics
import Derived.Laws.Pointers
import Derived.Laws.Strings
import Derived.Laws.Strings2
import Derived.Laws.BytesArg
import Derived.LoopTactic
import Derived.Outline
import Derived.Below
import Derived.Laws.Externs
import Derived.Deep.QuietTactic
import Derived.Deep.RegionWith
import Derived.BigQuiet
import Derived.RegionTactic
import Derived.ChangeAlike
import Derived.OwnWalk
import Derived.Laws.OwnMore
import Derived.Laws.Rows
import Derived.Laws.EntriesVeiled
import Derived.Lib.MinMax
import Derived.Lib.Strings
namespace Go.Proofs.Ytnkjppclhhjdmaa
open Go.RowKit
set_option linter.unusedVariables false
set_option linter.unusedSimpArgs false
set_option linter.unnecessarySimpa false

set_option maxHeartbeats 4000000 in
set_option maxRecDepth 20000 in
theorem lexerRoundTrip_walk (a0 : Option Addr) (len0 cap0 : Nat) (a1 : ByteArray) (w : World) (w0 : IsToks w a0 len0 cap0) (w1 : a1.size ≤ maxLen) :
    Calls Try.prog 9 #[.slice a0 len0 cap0, .string a1] w fun e w' => e = .returned (.bool true) ∧ Below w.heap.size w w' := by
  obtain ⟨n, hn⟩ : ∃ n : Nat, n = min len0 60 := ⟨_, rfl⟩
  have en : min (len0 : Int) 60 = (n : Int) := by omega
  obtain ⟨L, hL, RD, hsz, CUT⟩ := w0.cut (n := n) (by omega)
  obtain ⟨m1, hm⟩ : ∃ m : Nat, m = min a1.size 1024 := ⟨_, rfl⟩
  have em : min (a1.size : Int) 1024 = (m1 : Int) := by omega
  have hm0 : (m1 : Int) ≤ a1.size := by omega
  have hm1 : (0 : Int) ≤ m1 := by omega
  have hsz1 : (a1.extract 0 m1).size ≤ 1024 := by rw [ByteArray.size_extract]; omega
  have TA := fun (s : ByteArray) (h : s.size ≤ 1024) w => hide (tokenize_any s w (by omega))
  have KN := fun w => hide (known_any w)
  have OA := fun (v0 : Value) (L : List Rw) (w : World) h1 h2 => hide (own_any v0 L w h1 h2)
  have JA := fun (v0 : Value) (L : List Rw) (w : World) h1 h2 => hide (join_any v0 L w h1 h2)
  have EA := fun (v1 v2 : Value) (L1 L2 : List Rw) (w : World) h1 h2 h3 h4 => hide (equal_any v1 v2 L1 L2 w h1 h2 h3 h4)
  have HLn := hide (show L.length ≤ 60 by omega)
  clear hn hm hL hsz w0
  have HS := hide hsz1
  have RD0 := hide RD
  clear hsz1 RD
  go_enter Try.func9, Try.ntmps9
  go_wp2_with fail
  go_quiet (fail)
  go_wp2_with fail
  generalize a1.extract 0 m1 = s at *
  have BW := hide (below_drewN (Below.refl w.heap.size w) nq)
  generalize w.drewN nq = wq at *
  have RDq := hide (RD0.out.keep BW.out)
  generalize (Value.slice a0 n cap0) = va at *
  refine (OA va L _ RDq.out (by have := HLn.out; omega)).out.mono ?_
  rintro e w1 ⟨v1, rfl, ho, hb⟩
  have B1 := hide (BW.out.trans (hb.mono BW.out.size))
  have RD1 := hide (RDq.out.keep hb)
  have RO1 := hide ho.rd
  clear ho hb
  go_wp2_with fail
  refine (JA v1 L _ RO1.out (by have := HLn.out; omega)).out.mono ?_
  rintro e w2 ⟨rfl, hb⟩
  have B2 := hide (B1.out.trans (hb.mono B1.out.size))
  have RD2 := hide (RD1.out.keep hb)
  clear hb RO1
  by_cases hj : jE L = 0
  · obtain ⟨M, hM, hk⟩ := tok_join hj
    have hz : (jS L).size ≤ 1024 := by obtain ⟨_, h, e⟩ := jE_zero hj; rw [e]; exact h
    have t1 := fun w => TA (jS L) hz w
    have HZ := hide hz
    have HM := hide hM
    have HK := hide hk
    have hj0 : ((jE L : Nat) : Int) = 0 := by rw [hj]; rfl
    rw [hj0]
    clear hz hM hk hj hj0
    generalize jS L = U at *
    go_wp2_with fail
    refine (t1 _).out.mono ?_
    rintro e w3 ⟨v3, p3, er3, rfl, hp, hb⟩
    unfold TkP at hp
    rw [if_neg (by have := HZ.out; omega), HM.out] at hp
    obtain ⟨rfl, rfl, hL3, ho3⟩ := hp
    have B3 := hide (B2.out.trans (hb.mono B2.out.size))
    have RD3 := hide (RD2.out.keep hb)
    have RM3 := hide ho3.rd
    have HL3 := hide (show (M.map rwT).length ≤ 100000 by rw [List.length_map]; have h : M.length ≤ 1024 := hL3; omega)
    clear hb ho3 hL3 t1
    generalize M.map rwT = LM at *
    go_wp2_with fail
    refine (OA va L _ RD3.out (by have := HLn.out; omega)).out.mono ?_
    rintro e w4 ⟨v4, rfl, ho, hb⟩
    have B4 := hide (B3.out.trans (hb.mono B3.out.size))
    have RM4 := hide (RM3.out.keep hb)
    have RO4 := hide ho.rd
    clear ho hb
    have ea := EA v3 v4 LM L w4 RM4.out RO4.out (by have := HL3.out; omega) (by have := HLn.out; omega)
    rw [decide_eq_true HK.out] at ea
    go_wp2_with fail
    refine ea.out.mono ?_
    rintro e w5 ⟨rfl, hb⟩
    have BA := hide (B4.out.trans (hb.mono B4.out.size))
    clear hb ea RM4 RO4 RM3 HL3 HK HM HZ B4 B3 B2 B1 RD3 RD2 RD1
    go_wp2_with fail
    refine (TA s (by have := HS.out; omega) _).out.mono ?_
    rintro e x3 ⟨y3, z3, r3, rfl, hp, hb⟩
    unfold TkP at hp
    rw [if_neg (by have := HS.out; omega)] at hp
    obtain ⟨rfl, rfl, hL3, ho3⟩ := hp
    have D3 := hide (BA.out.trans (hb.mono BA.out.size))
    clear hb
    generalize ((Lx.tok 0 (bn s)).2.1 : Int) = z3 at *
    by_cases hE : (Lx.tok 0 (bn s)).2.2 = 0
    · have hE' : ((Lx.tok 0 (bn s)).2.2 : Int) = 0 := by rw [hE]; rfl
      rw [hE']
      have G0 := Lx.gap_of (bn s) 0 hE
      generalize (Lx.tok 0 (bn s)).1 = M1 at *
      have J0 := gap_join G0 HS.out
      have RD3 := hide ho3.rd
      have HL3 := hide (show (M1.map rwT).length ≤ 100000 by rw [List.length_map]; omega)
      clear ho3 hE hE' G0 hL3
      generalize M1.map rwT = L1 at *
      obtain ⟨M2, hM2, hk2⟩ := tok_join J0
      have HM2 := hide hM2
      have HK2 := hide hk2
      have hz : (jS L1).size ≤ 1024 := by obtain ⟨_, h, e⟩ := jE_zero J0; rw [e]; exact h
      have HZ2 := hide hz
      have j1 := JA y3 L1 x3 RD3.out HL3.out
      have J0' : ((jE L1 : Nat) : Int) = 0 := by rw [J0]; rfl
      rw [J0'] at j1
      have JK1 : ((jE (M2.map rwT) : Nat) : Int) = 0 := by rw [(jE_kt hk2).1]; exact J0'
      have JK2 := (jE_kt hk2).2
      have t2 := fun w => TA (jS L1) hz w
      clear hM2 hk2 hz J0 J0'
      generalize jS L1 = U2 at *
      go_wp2_with fail
      refine j1.out.mono ?_
      rintro e x4 ⟨rfl, hb⟩
      have D4 := hide (D3.out.trans (hb.mono D3.out.size))
      have RD4 := hide (RD3.out.keep hb)
      clear hb j1 RD3 D3
      go_wp2_with fail
      refine (t2 _).out.mono ?_
      rintro e x5 ⟨y5, z5, r5, rfl, hp, hb⟩
      unfold TkP at hp
      rw [if_neg (by have := HZ2.out; omega), HM2.out] at hp
      obtain ⟨rfl, rfl, hL5, ho5⟩ := hp
      have D5 := hide (D4.out.trans (hb.mono D4.out.size))
      have RD5 := hide (RD4.out.keep hb)
      have RE5 := hide ho5.rd
      have HL5 := hide (show (M2.map rwT).length ≤ 100000 by rw [List.length_map]; have h : M2.length ≤ 1024 := hL5; omega)
      clear hb ho5 hL5 t2 D4 RD4 HM2 HZ2
      generalize M2.map rwT = L2 at *
      have j2 := JA y5 L2 x5 RE5.out HL5.out
      rw [JK1, JK2] at j2
      clear JK1 JK2
      go_wp2_with fail
      refine j2.out.mono ?_
      rintro e x6 ⟨rfl, hb⟩
      have D6 := hide (D5.out.trans (hb.mono D5.out.size))
      have RD6 := hide (RD5.out.keep hb)
      have RE6 := hide (RE5.out.keep hb)
      clear hb j2 RD5 RE5 D5
      go_wp2_with fail
      refine (KN _).out.mono ?_
      rintro e x7 ⟨rfl, hb⟩
      have D7 := hide (D6.out.trans (hb.mono D6.out.size))
      have RD7 := hide (RD6.out.keep hb)
      have RE7 := hide (RE6.out.keep hb)
      clear hb RD6 RE6 D6
      have eb := EA y3 y5 L1 L2 x7 RD7.out RE7.out (by have := HL3.out; omega) (by have := HL5.out; omega)
      rw [decide_eq_true HK2.out.symm] at eb
      go_wp2_with fail
      refine eb.out.mono ?_
      rintro e x8 ⟨rfl, hb⟩
      have D8 := hide (D7.out.trans (hb.mono D7.out.size))
      clear hb eb
      go_wp2_with fail
      go_ret
      exact ⟨rfl, D8.out⟩
    · have hz : (((Lx.tok 0 (bn s)).2.2 : Int) != 0) = true := by rw [bne_iff_ne]; omega
      generalize ((Lx.tok 0 (bn s)).2.2 : Int) = z at *
      clear ho3 TA hL3 hE
      go_wp2_with fail
      refine (KN _).out.mono ?_
      rintro e x4 ⟨rfl, hb⟩
      have D4 := hide (D3.out.trans (hb.mono D3.out.size))
      clear hb
      go_wp2_with fail
      go_ret
      exact ⟨rfl, D4.out⟩
  · have hjn : (((jE L : Nat) : Int) == 0) = false := by rw [beq_eq_false_iff_ne]; omega
    have BA := B2
    generalize ((jE L : Nat) : Int) = ej at *
    generalize jS L = U at *
    clear hj RD2 RD1 B2 B1
    go_wp2_with fail
    refine (TA s (by have := HS.out; omega) _).out.mono ?_
    rintro e x3 ⟨y3, z3, r3, rfl, hp, hb⟩
    unfold TkP at hp
    rw [if_neg (by have := HS.out; omega)] at hp
    obtain ⟨rfl, rfl, hL3, ho3⟩ := hp
    have D3 := hide (BA.out.trans (hb.mono BA.out.size))
    clear hb
    generalize ((Lx.tok 0 (bn s)).2.1 : Int) = z3 at *
    by_cases hE : (Lx.tok 0 (bn s)).2.2 = 0
    · have hE' : ((Lx.tok 0 (bn s)).2.2 : Int) = 0 := by rw [hE]; rfl
      rw [hE']
      have G0 := Lx.gap_of (bn s) 0 hE
      generalize (Lx.tok 0 (bn s)).1 = M1 at *
      have J0 := gap_join G0 HS.out
      have RD3 := hide ho3.rd
      have HL3 := hide (show (M1.map rwT).length ≤ 100000 by rw [List.length_map]; omega)
      clear ho3 hE hE' G0 hL3
      generalize M1.map rwT = L1 at *
      obtain ⟨M2, hM2, hk2⟩ := tok_join J0
      have HM2 := hide hM2
      have HK2 := hide hk2
      have hz : (jS L1).size ≤ 1024 := by obtain ⟨_, h, e⟩ := jE_zero J0; rw [e]; exact h
      have HZ2 := hide hz
      have j1 := JA y3 L1 x3 RD3.out HL3.out
      have J0' : ((jE L1 : Nat) : Int) = 0 := by rw [J0]; rfl
      rw [J0'] at j1
      have JK1 : ((jE (M2.map rwT) : Nat) : Int) = 0 := by rw [(jE_kt hk2).1]; exact J0'
      have JK2 := (jE_kt hk2).2
      have t2 := fun w => TA (jS L1) hz w
      clear hM2 hk2 hz J0 J0'
      generalize jS L1 = U2 at *
      go_wp2_with fail
      refine j1.out.mono ?_
      rintro e x4 ⟨rfl, hb⟩
      have D4 := hide (D3.out.trans (hb.mono D3.out.size))
      have RD4 := hide (RD3.out.keep hb)
      clear hb j1 RD3 D3
      go_wp2_with fail
      refine (t2 _).out.mono ?_
      rintro e x5 ⟨y5, z5, r5, rfl, hp, hb⟩
      unfold TkP at hp
      rw [if_neg (by have := HZ2.out; omega), HM2.out] at hp
      obtain ⟨rfl, rfl, hL5, ho5⟩ := hp
      have D5 := hide (D4.out.trans (hb.mono D4.out.size))
      have RD5 := hide (RD4.out.keep hb)
      have RE5 := hide ho5.rd
      have HL5 := hide (show (M2.map rwT).length ≤ 100000 by rw [List.length_map]; have h : M2.length ≤ 1024 := hL5; omega)
      clear hb ho5 hL5 t2 D4 RD4 HM2 HZ2
      generalize M2.map rwT = L2 at *
      have j2 := JA y5 L2 x5 RE5.out HL5.out
      rw [JK1, JK2] at j2
      clear JK1 JK2
      go_wp2_with fail
      refine j2.out.mono ?_
      rintro e x6 ⟨rfl, hb⟩
      have D6 := hide (D5.out.trans (hb.mono D5.out.size))
      have RD6 := hide (RD5.out.keep hb)
      have RE6 := hide (RE5.out.keep hb)
      clear hb j2 RD5 RE5 D5
      go_wp2_with fail
      refine (KN _).out.mono ?_
      rintro e x7 ⟨rfl, hb⟩
      have D7 := hide (D6.out.trans (hb.mono D6.out.size))
      have RD7 := hide (RD6.out.keep hb)
      have RE7 := hide (RE6.out.keep hb)
      clear hb RD6 RE6 D6
      have eb := EA y3 y5 L1 L2 x7 RD7.out RE7.out (by have := HL3.out; omega) (by have := HL5.out; omega)
      rw [decide_eq_true HK2.out.symm] at eb
      go_wp2_with fail
      refine eb.out.mono ?_
      rintro e x8 ⟨rfl, hb⟩
      have D8 := hide (D7.out.trans (hb.mono D7.out.size))
      clear hb eb
      go_wp2_with fail
      go_ret
      exact ⟨rfl, D8.out⟩
    · have hz : (((Lx.tok 0 (bn s)).2.2 : Int) != 0) = true := by rw [bne_iff_ne]; omega
      generalize ((Lx.tok 0 (bn s)).2.2 : Int) = z at *
      clear ho3 TA hL3 hE
      go_wp2_with fail
      refine (KN _).out.mono ?_
      rintro e x4 ⟨rfl, hb⟩
      have D4 := hide (D3.out.trans (hb.mono D3.out.size))
      clear hb
      go_wp2_with fail
      go_ret
      exact ⟨rfl, D4.out⟩

end Go.Proofs.Ytnkjppclhhjdmaa
