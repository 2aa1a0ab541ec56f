/-
  Tokenize.
-/
import Derived.Test.YtnkjppclhhjdmaaRows
import Derived.Test.YtnkjppclhhjdmaaLF
import Derived.WalkKit
import Derived.WalkSpells
import Derived.StillTactics
import Derived.Laws.Pointers
import Derived.Laws.Strings
import Derived.Laws.Strings2
import Derived.Laws.BytesArg
import Derived.LoopTactic
import Derived.Outline
import Derived.Below
import Derived.Laws.Externs
import Derived.Deep.QuietTactic
import Derived.Deep.RegionWith
import Derived.BigQuiet
import Derived.RegionTactic
import Derived.ChangeAlike
import Derived.OwnWalk
import Derived.Laws.OwnMore
import Derived.Laws.Rows
import Derived.Laws.EntriesVeiled
import Derived.Lib.MinMax
import Derived.Lib.Strings
import Derived.WalkMore
namespace Go.Proofs.Ytnkjppclhhjdmaa
open Go.RowKit
set_option linter.unusedVariables false
set_option linter.unusedSimpArgs false
set_option linter.unnecessarySimpa false

/-- What Tokenize answers, and what is then so. -/
def TkP (s : ByteArray) (w w' : World) (v : Value) (p e : Int) : Prop :=
  if 1024 < s.size then v = .slice none 0 0 ∧ p = 1024 ∧ e = 5
  else p = ((Lx.tok 0 (bn s)).2.1 : Int) ∧ e = ((Lx.tok 0 (bn s)).2.2 : Int) ∧ (Lx.tok 0 (bn s)).1.length ≤ 1024 ∧ OwT w' w.heap.size v (Lx.tok 0 (bn s)).1
theorem bn_from (s : ByteArray) (n : Nat) : bn (s.extract n s.size) = (bn s).drop n := by
  rw [bn_ext]
  exact List.take_of_length_le (by rw [List.length_drop, bn_len]; exact Nat.le_refl _)
theorem run_from {p : Nat → Bool} {l : List Nat} {n j : Nat} (hj : j < Lx.run p (l.drop n)) : p (l.getD (n + j) 0) = true := by
  rw [← getD_drop]; exact run_lt hj
theorem run_stop {p : Nat → Bool} {l : List Nat} {n : Nat} (h : n + Lx.run p (l.drop n) < l.length) : p (l.getD (n + Lx.run p (l.drop n)) 0) = false := by
  rw [← getD_drop]
  exact run_at (by rw [List.length_drop]; omega)
theorem tokP_ok {s : ByteArray} {w w' : World} {v : Value} {L : List Lx.Tk} (hs : ¬ 1024 < s.size) (h : Lx.tok 0 (bn s) = (L, 0, 0)) (hl : L.length ≤ 1024) (ho : OwT w' w.heap.size v L) : TkP s w w' v 0 0 := by
  unfold TkP
  rw [if_neg hs, h]
  exact ⟨rfl, rfl, hl, ho⟩
theorem tokP_bad {s : ByteArray} {w w' : World} {p : Nat} {E : Nat} (hs : ¬ 1024 < s.size) (h : Lx.tok 0 (bn s) = ([], p, E)) : TkP s w w' (.slice none 0 0) p E := by
  unfold TkP
  rw [if_neg hs, h]
  exact ⟨rfl, rfl, by simp, OwT.nil _ _⟩
set_option maxHeartbeats 8000000 in
set_option maxRecDepth 20000 in
theorem tokenize_any (s : ByteArray) (w : World) (hm : s.size ≤ 100000) : Calls Try.prog 13 #[.string s] w fun e w' => ∃ v p er, e = .returned (.tuple #[v, .int .i64 p, .int .i64 er]) ∧ TkP s w w' v p er ∧ Below w.heap.size w w' := by
  have hI : (s.size : Int) ≤ 100000 := by omega
  by_cases hs : 1024 < s.size
  · have hs' : (1024 : Int) < s.size := by omega
    have HT := hide (show ∀ w', TkP s w w' (.slice none 0 0) 1024 5 from fun w' => by unfold TkP; rw [if_pos hs]; exact ⟨rfl, rfl, rfl⟩)
    clear hs
    go_enter Try.func13, Try.ntmps13
    go_wp2_with fail
    go_step3
    go_wp2_with fail
    rw [Exit.noGoto_ret]
    exact bodyPost_ret (v := .tuple #[.slice none 0 0, .int .i64 1024, .int .i64 5]) (by simp [results, Try.results13, go_sem]) rfl ⟨_, _, _, rfl, HT.out _, Below.refl _ _⟩
  · have hs' : ¬ (1024 : Int) < s.size := by omega
    have hsz : (s.size : Int) ≤ 1024 := by omega
    have HS := hide hs
    have HM := hide hm
    have RB := fun (t : ByteArray) (ht : t.size ≤ 100000) (w : World) => hide (run_blank t w ht)
    have RW := fun (t : ByteArray) (ht : t.size ≤ 100000) (w : World) => hide (run_word t w ht)
    have CL := fun (t : ByteArray) (ht : t.size ≤ 100000) (w : World) => hide (classify_any t w ht)
    have IX := hide (idxI s)
    clear hs hm
    go_enter Try.func13, Try.ntmps13
    go_wp2_with fail
    go_step3
    go_wp2_with fail
    go_step3
    go_wp2_with fail
    go_loopw [5, 6] (fun v5 v6 wr => ∃ (L : List Lx.Tk) (n : Nat), v6 = .int .i64 (n : Int) ∧ Hid (Lx.Mid (bn s) L n) ∧ Hid (L.length ≤ n) ∧ Hid (OwT wr w.heap.size v5 L) ∧ Hid (Below w.heap.size w wr)) (fun _ v6 _ => s.size - (intOf v6).toNat)
    case atStart => exact ⟨[], 0, rfl, hide (Lx.mid_start _), hide (Nat.le_refl _), hide (OwT.nil _ _), hide (Below.refl _ _)⟩
    case round =>
      obtain ⟨L, n, rfl, MD, LN, OT, BL⟩ := hrel
      have hn : n ≤ s.size := by have := MD.out.1; rw [bn_len] at this; exact this
      have e1 : (s.extract n s.size).size ≤ 100000 := by rw [ByteArray.size_extract]; have := HM.out; omega
      have rb := RB _ e1
      rw [bn_from] at rb
      have rle : n + Lx.run Lx.blk ((bn s).drop n) ≤ s.size := by have := Lx.run_le Lx.blk ((bn s).drop n); rw [List.length_drop, bn_len] at this; omega
      have MD2 := hide (Lx.mid_blanks (k := Lx.run Lx.blk ((bn s).drop n)) MD.out (by rw [bn_len]; exact rle) (fun j hj => run_from hj))
      have LM := hide (show L.length ≤ n + Lx.run Lx.blk ((bn s).drop n) by have := LN.out; omega)
      have NB := hide (run_stop (p := Lx.blk) (l := bn s) (n := n))
      obtain ⟨r, hr⟩ : ∃ r, r = Lx.run Lx.blk ((bn s).drop n) := ⟨_, rfl⟩
      rw [← hr] at rb rle MD2 LM NB
      clear hr MD LN e1 RB
      obtain ⟨m, hmr⟩ : ∃ m, m = n + r := ⟨_, rfl⟩
      have hmi : (n : Int) + (r : Int) = (m : Int) := by omega
      rw [← hmr] at rle MD2 LM NB
      have HMR := hide hmr
      clear hmr
      have hn0 : (n : Int) ≤ s.size := by omega
      have hmn : n ≤ m := by omega
      by_cases hend : m = s.size
      · have hend' : (m : Int) = s.size := by omega
        have HE := hide (Lx.mid_end MD2.out (.inl (by rw [bn_len]; exact hend)))
        have HL := hide (show L.length ≤ 1024 by have := LM.out; omega)
        clear MD2 LM NB RW CL IX hend
        go_wp2_with fail
        refine (rb _).out.mono ?_
        rintro e w' ⟨rfl, rfl⟩
        go_wp2_with fail
        rw [Exit.noGoto_ret]
        exact bodyPost_ret (v := .tuple #[u5, .int .i64 0, .int .i64 0]) (by simp [results, Try.results13, go_sem]) rfl ⟨_, _, _, rfl, tokP_ok HS.out HE.out HL.out OT.out, BL.out⟩
      · have hlt : m < s.size := by omega
        have hend' : ((m : Int) == s.size) = false := by rw [beq_eq_false_iff_ne]; omega
        have jx := IX.out (m : Int) m rfl hlt
        have nb := NB.out (by rw [bn_len]; exact hlt)
        by_cases hc : (bn s).getD m 0 = 35
        · rw [hc] at jx
          have HE := hide (Lx.mid_end MD2.out (.inr hc))
          have HL := hide (show L.length ≤ 1024 by have := LM.out; omega)
          clear MD2 LM NB RW CL IX hend hc nb
          go_wp2_with fail
          refine (rb _).out.mono ?_
          rintro e w' ⟨rfl, rfl⟩
          go_wp2_with fail
          rw [Exit.noGoto_ret]
          exact bodyPost_ret (v := .tuple #[u5, .int .i64 0, .int .i64 0]) (by simp [results, Try.results13, go_sem]) rfl ⟨_, _, _, rfl, tokP_ok HS.out HE.out HL.out OT.out, BL.out⟩
        · have hcx : (((((bn s).getD m 0 : Nat)) : Int) == 35) = false := by rw [beq_eq_false_iff_ne]; omega
          generalize ((((bn s).getD m 0 : Nat)) : Int) = x at *
          have e2 : (s.extract m s.size).size ≤ 100000 := by rw [ByteArray.size_extract]; have := HM.out; omega
          have rw2 := RW _ e2
          rw [bn_from] at rw2
          have HW := hide (show 0 < Lx.run (fun c => !Lx.blk c) ((bn s).drop m) from Lx.run_pos (by rw [List.length_drop, bn_len]; omega) (by rw [getD_drop, Nat.add_zero, nb]; rfl))
          have wle : m + Lx.run (fun c => !Lx.blk c) ((bn s).drop m) ≤ s.size := by have := Lx.run_le (fun c => !Lx.blk c) ((bn s).drop m); rw [List.length_drop, bn_len] at this; omega
          have MW := hide (Lx.mid_word MD2.out (by rw [bn_len]; exact hlt) hc nb rfl)
          obtain ⟨wl, hwl⟩ : ∃ wl, wl = Lx.run (fun c => !Lx.blk c) ((bn s).drop m) := ⟨_, rfl⟩
          rw [← hwl] at rw2 HW wle MW
          obtain ⟨q, hq⟩ : ∃ q, q = m + wl := ⟨_, rfl⟩
          have hqi : (m : Int) + (wl : Int) = (q : Int) := by omega
          have et : bn (s.extract m q) = ((bn s).drop m).take wl := by rw [bn_ext, hq, Nat.add_sub_cancel_left]
          rw [← et, ← hq] at MW
          rw [← hq] at wle
          have e3 : (s.extract m q).size ≤ 100000 := by rw [ByteArray.size_extract]; have := HM.out; omega
          have cl := CL _ e3
          have hm0 : (m : Int) ≤ s.size := by omega
          have hq0 : (q : Int) ≤ s.size := by omega
          have hmq : (m : Int) ≤ (q : Int) := by omega
          have HQ := hide (show n < q by have := HW.out; omega)
          have LQ := hide (show (L ++ [(⟨Lx.kindK (bn (s.extract m q)), bn (s.extract m q), m⟩ : Lx.Tk)]).length ≤ q by rw [List.length_append]; have := LM.out; have := HW.out; simp; omega)
          have LL := hide (show L.length ≤ 1000000 by have := LM.out; omega)
          have hT := hide (bs_bn (s.extract m q)).symm
          clear e2 e3 et hwl hq HW MD2 LM NB nb hc hlt hend RW CL IX
          by_cases hE : Lx.kindE (bn (s.extract m q)) = 0
          · have MD3 := hide (MW.out.1 hE)
            have hE' : (Lx.kindE (bn (s.extract m q)) : Int) = 0 := by rw [hE]; rfl
            rw [hE'] at cl
            have hK := hide (show (Lx.kindK (bn (s.extract m q)) : Int) = (((⟨Lx.kindK (bn (s.extract m q)), bn (s.extract m q), m⟩ : Lx.Tk).kind : Nat) : Int) from rfl)
            have TC := fun W => hide (tok_cells W (⟨Lx.kindK (bn (s.extract m q)), bn (s.extract m q), m⟩ : Lx.Tk) (p := (m : Int)) hK.out hT.out rfl)
            generalize ((Lx.kindK (bn (s.extract m q)) : Nat) : Int) = K at cl hK TC
            generalize (⟨Lx.kindK (bn (s.extract m q)), bn (s.extract m q), m⟩ : Lx.Tk) = t at *
            clear hE hE' hK hT MW
            go_wp2_with fail
            refine (rb _).out.mono ?_
            rintro e w' ⟨rfl, rfl⟩
            go_wp2_with fail
            refine (rw2 _).out.mono ?_
            rintro e w' ⟨rfl, rfl⟩
            go_wp2_with fail
            refine (cl _).out.mono ?_
            rintro e x1 ⟨rfl, hb⟩
            have BL2 := hide (BL.out.trans (hb.mono BL.out.size))
            have OT2 := hide (OT.out.keep hb)
            clear hb
            have BL3 := hide (BL2.out.alloc BL2.out.size (Obj.cells #[.int .i64 K, .string (s.extract m q), .int .i64 (m : Int)] 37))
            have OT3 := hide (OT2.out.keep (one_alloc x1 (Obj.cells #[.int .i64 K, .string (s.extract m q), .int .i64 (m : Int)] 37)))
            have TC1 := TC x1
            clear BL2 OT2 OT BL TC
            go_wp2_with (refine wpList_apT (W := w) BL3.out OT3.out TC1.out LL.out rfl (.tmp 49) (.tmp 54) rfl rfl rfl ?_; intro v3 w3 HO3 HB3)
            go_roundw
            case rel => exact ⟨_, q, by go_num, MD3, LQ, HO3, HB3⟩
            case measure => have := HQ.out; simp [intOf]; omega
          · have HF := hide (MW.out.2 hE)
            have hz : (((Lx.kindE (bn (s.extract m q)) : Nat) : Int) != 0) = true := by rw [bne_iff_ne]; omega
            have HP := hide (show ∀ w', TkP s w w' (.slice none 0 0) (m : Int) ((Lx.kindE (bn (s.extract m q)) : Nat) : Int) from fun w' => tokP_bad HS.out HF.out)
            clear MW HF hE LQ
            generalize ((Lx.kindE (bn (s.extract m q)) : Nat) : Int) = z at *
            generalize ((Lx.kindK (bn (s.extract m q)) : Nat) : Int) = K at *
            go_wp2_with fail
            refine (rb _).out.mono ?_
            rintro e w' ⟨rfl, rfl⟩
            go_wp2_with fail
            refine (rw2 _).out.mono ?_
            rintro e w' ⟨rfl, rfl⟩
            go_wp2_with fail
            refine (cl _).out.mono ?_
            rintro e x1 ⟨rfl, hb⟩
            have BL2 := hide (BL.out.trans (hb.mono BL.out.size))
            clear hb
            go_wp2_with fail
            rw [Exit.noGoto_ret]
            exact bodyPost_ret (v := .tuple #[.slice none 0 0, .int .i64 (m : Int), .int .i64 z]) (by simp [results, Try.results13, go_sem]) rfl ⟨_, _, _, rfl, HP.out _, BL2.out⟩

end Go.Proofs.Ytnkjppclhhjdmaa
