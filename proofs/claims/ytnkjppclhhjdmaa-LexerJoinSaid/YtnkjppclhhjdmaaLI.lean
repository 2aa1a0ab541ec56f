/-
  The reference: Tokens .
-/
import Derived.Test.YtnkjppclhhjdmaaRows
import Derived.Test.YtnkjppclhhjdmaaLH
import Derived.WalkMore
import Derived.WalkKit
import Derived.WalkSpells
import Derived.StillTactics
import Derived.Laws.Pointers
import Derived.Laws.Strings
import Derived.Laws.Strings2
import Derived.Laws.BytesArg
import Derived.LoopTactic
import Derived.Outline
import Derived.Below
import Derived.Laws.Externs
import Derived.Deep.QuietTactic
import Derived.Deep.RegionWith
import Derived.BigQuiet
import Derived.RegionTactic
import Derived.ChangeAlike
import Derived.OwnWalk
import Derived.Laws.OwnMore
import Derived.Laws.Rows
import Derived.Laws.EntriesVeiled
import Derived.Lib.MinMax
import Derived.Lib.Strings
namespace Go.Proofs.Ytnkjppclhhjdmaa
open Go.RowKit
set_option linter.unusedVariables false
set_option linter.unusedSimpArgs false
set_option linter.unnecessarySimpa false

def OwR (w : World) (base : Nat) (v : Value) (L : List Lx.Tk) : Prop := w.ownsRow base 36 3 v L.length (tkL L)
theorem OwR.nil (w : World) (base : Nat) : OwR w base (.slice none 0 0) [] := World.ownsRow_nil w base 36 3
theorem OwR.keep {w w' : World} {base : Nat} {v : Value} {L : List Lx.Tk} (h : OwR w base v L) (hb : Below w.heap.size w w') : OwR w' base v L :=
  World.ownsRow.kept (row := none) h ⟨hb.os, hb.tape, hb.output, hb.size, fun k hk _ => hb.block k hk⟩ (by cases hv : v.ownBlock <;> simp)
theorem OwR.lt {w : World} {base : Nat} {v : Value} {L : List Lx.Tk} (h : OwR w base v L) : ∀ k, v.ownBlock = some k → base ≤ k ∧ k < w.heap.size := World.ownsRow.lt h
theorem Try.info36 : (Try.prog.info? 36).map (fun i => (i.zero, i.size, i.bytes)) = some (some (.agg #[.int .i64 0, .string ⟨#[]⟩, .int .i64 0]), 3, 32) := by kernel_rfl
theorem wpList_apR {W : World} {ops : Array Oper} {rest : List Oper} {o : Oper} {a : Act} {w : World} {Q : Exit → Act → World → Prop} {v : Value} {L : List Lx.Tk} {t : Lx.Tk} {g : Nat} (HB : Below W.heap.size W w) (hown : OwR w W.heap.size v L)
    (hc : ∀ j u, (tkC t)[j]? = some u → w.cell? ⟨g, j, none⟩ = some u) (hl : L.length ≤ 1000000) (hgd : o.guard = none) (s x : Operand)
    (ho : o.op = .call { callee := .builtin .append, args := #[s, x], argTypes := #[32, 32] }) (hs : a.eval s = v) (hx : a.eval x = .slice (some ⟨g, 0, none⟩) 1 1)
    (h : ∀ v' w', Hid (OwR w' W.heap.size v' (L ++ [t])) → Hid (Below W.heap.size W w') → wpList Try.prog ops Q rest (a.put o.dst v') w') : wpList Try.prog ops Q (o :: rest) a w := by
  obtain ⟨i0, hi, hz0, hz1, hz2⟩ := info_parts Try.info36
  obtain ⟨v', w', hr, ho', hg, _⟩ := run_append_own (P := Try.prog) w W.heap.size 32 o.type 36 i0 _ 3 32 Try.underlying32 hi hz0 hz1 hz2 rfl (by decide) v L.length (tkL L) hown ⟨g, 0, none⟩ 1 1 (tkC t)
    rfl (fun j u hu => by have := hc j u hu; by_cases hj : j = 0 <;> simp_all [Addr.add]) (fun u hu => by
      simp [tkC] at hu
      rcases hu with rfl | rfl | rfl <;> rfl) (by unfold maxLen; omega) (by omega) HB.size
  refine wpList_plain hgd fun K hK => ?_
  unfold Oper.wp execOp
  simp only [ho, resolve, invoke, builtin, Sem.run_bind, Sem.run_pure, Result.andThen_ok, List.map_toArray, List.map_cons, List.map_nil, hs, hx, hr]
  refine hK _ _ (h v' w' (hide ?_) (hide (HB.grown hg HB.size (fun k hk => (hown.lt k hk).1))))
  unfold OwR
  rw [List.length_append]
  have e : tkL (L ++ [t]) = tkL L ++ tkC t := by unfold tkL; rw [List.flatMap_append]; simp
  rw [e]; exact ho'
theorem rtok_cells (w : World) (t : Lx.Tk) {k p : Int} {s : ByteArray} (h1 : k = (t.kind : Int)) (h2 : s = bs t.text) (h3 : p = (t.pos : Int)) : ∀ j u, (tkC t)[j]? = some u → (w.alloc (Obj.cells #[.int .i64 k, .string s, .int .i64 p] 36)).cell? ⟨w.heap.size, j, none⟩ = some u := by
  subst h1 h2 h3
  intro j u hu
  rw [World.cell?_alloc_at _ _ _ _ rfl]
  match j with
  | 0 => simpa [tkC, go_sem] using hu
  | 1 => simpa [tkC, go_sem] using hu
  | 2 => simpa [tkC, go_sem] using hu
  | j + 3 => simp [tkC] at hu

def TkQ (s : ByteArray) (w w' : World) (v : Value) (p e : Int) : Prop :=
  if 1024 < s.size then v = .slice none 0 0 ∧ p = 1024 ∧ e = 5
  else p = ((Lx.tok 0 (bn s)).2.1 : Int) ∧ e = ((Lx.tok 0 (bn s)).2.2 : Int) ∧ (Lx.tok 0 (bn s)).1.length ≤ 1024 ∧ OwR w' w.heap.size v (Lx.tok 0 (bn s)).1
theorem tokQ_ok {s : ByteArray} {w w' : World} {v : Value} {L : List Lx.Tk} (hs : ¬ 1024 < s.size) (h : Lx.tok 0 (bn s) = (L, 0, 0)) (hl : L.length ≤ 1024) (ho : OwR w' w.heap.size v L) : TkQ s w w' v 0 0 := by
  unfold TkQ
  rw [if_neg hs, h]
  exact ⟨rfl, rfl, hl, ho⟩
theorem tokQ_bad {s : ByteArray} {w w' : World} {p : Nat} {E : Nat} (hs : ¬ 1024 < s.size) (h : Lx.tok 0 (bn s) = ([], p, E)) : TkQ s w w' (.slice none 0 0) p E := by
  unfold TkQ
  rw [if_neg hs, h]
  exact ⟨rfl, rfl, by simp, OwR.nil _ _⟩
set_option maxHeartbeats 8000000 in
set_option maxRecDepth 20000 in
theorem rtokens_any (s : ByteArray) (w : World) (hm : s.size ≤ 100000) : Calls Try.prog 14 #[.string s] w fun e w' => ∃ v p er, e = .returned (.tuple #[v, .int .i64 p, .int .i64 er]) ∧ TkQ s w w' v p er ∧ Below w.heap.size w w' := by
  have hI : (s.size : Int) ≤ 100000 := by omega
  by_cases hs : 1024 < s.size
  · have hs' : (1024 : Int) < s.size := by omega
    have HT := hide (show ∀ w', TkQ s w w' (.slice none 0 0) 1024 5 from fun w' => by unfold TkQ; rw [if_pos hs]; exact ⟨rfl, rfl, rfl⟩)
    clear hs
    go_enter Try.func14, Try.ntmps14
    go_wp2_with fail
    exact bodyPost_ret (v := .tuple #[.slice none 0 0, .int .i64 1024, .int .i64 5]) (by simp [results, Try.results14, go_sem]) rfl ⟨_, _, _, rfl, HT.out _, Below.refl _ _⟩
  · have hs' : ¬ (1024 : Int) < s.size := by omega
    have hsz : (s.size : Int) ≤ 1024 := by omega
    have HS := hide hs
    have HM := hide hm
    have RB := fun (c : Nat) (w : World) => hide (rblank_any c w)
    have CL := fun (t : ByteArray) (ht : t.size ≤ 100000) (w : World) => hide (rkind_any t w ht)
    have IX := hide (idxI s)
    clear hs hm
    go_enter Try.func14, Try.ntmps14
    go_wp2_with fail
    go_loopw [5, 6] (fun v5 v6 wr => ∃ (L : List Lx.Tk) (n : Nat), v6 = .int .i64 (n : Int) ∧ Hid (Lx.Mid (bn s) L n) ∧ Hid (L.length ≤ n) ∧ Hid (OwR wr w.heap.size v5 L) ∧ Hid (Below w.heap.size w wr)) (fun _ v6 _ => s.size - (intOf v6).toNat)
    case atStart => exact ⟨[], 0, rfl, hide (Lx.mid_start _), hide (Nat.le_refl _), hide (OwR.nil _ _), hide (Below.refl _ _)⟩
    case round =>
      obtain ⟨L, n, rfl, MD, LN, OT, BL⟩ := hrel
      have hn : n ≤ s.size := by have := MD.out.1; rw [bn_len] at this; exact this
      by_cases hlt : n < s.size
      · have hlt' : (n : Int) < s.size := by omega
        have j1 := IX.out (n : Int) n rfl hlt
        have rb := RB ((bn s).getD n 0)
        by_cases hb : Lx.blk ((bn s).getD n 0) = true
        · have MD2 := hide (Lx.mid_blank MD.out (by rw [bn_len]; exact hlt) hb)
          have LM := hide (show L.length ≤ n + 1 by have := LN.out; omega)
          rw [hb] at rb
          generalize ((((bn s).getD n 0 : Nat)) : Int) = x at *
          clear MD LN RB CL IX hb
          go_wp2_with fail
          refine (rb _).out.mono ?_
          rintro e w' ⟨rfl, rfl⟩
          go_wp2_with fail
          go_roundw
          case rel => exact ⟨L, n + 1, by go_num, MD2, LM, OT, BL⟩
          case measure => simp [intOf]; omega
        · have hb' : Lx.blk ((bn s).getD n 0) = false := by simpa using hb
          rw [hb'] at rb
          by_cases hc : (bn s).getD n 0 = 35
          · have HE := hide (Lx.mid_end MD.out (.inr hc))
            have HL := hide (show L.length ≤ 1024 by have := LN.out; omega)
            rw [hc] at j1 rb
            clear MD LN RB CL IX hb hb' hc
            go_wp2_with fail
            refine (rb _).out.mono ?_
            rintro e w' ⟨rfl, rfl⟩
            go_wp2_with fail
            exact bodyPost_ret (v := .tuple #[u5, .int .i64 0, .int .i64 0]) (by simp [results, Try.results14, go_sem]) rfl ⟨_, _, _, rfl, tokQ_ok HS.out HE.out HL.out OT.out, BL.out⟩
          · have hcx : (((((bn s).getD n 0 : Nat)) : Int) == 35) = false := by rw [beq_eq_false_iff_ne]; omega
            have ex := hide (rfl : ((((bn s).getD n 0 : Nat)) : Int) = ((((bn s).getD n 0 : Nat)) : Int))
            generalize ((((bn s).getD n 0 : Nat)) : Int) = x at j1 rb hcx
            clear ex
            go_wp2_with fail
            refine (rb _).out.mono ?_
            rintro e w' ⟨rfl, rfl⟩
            go_wp2_with fail
            clear j1 hcx
            go_loopw [7] (fun v7 w7 => ∃ e : Nat, v7 = .int .i64 (e : Int) ∧ n ≤ e ∧ e ≤ s.size ∧ Hid (∀ j, n ≤ j → j < e → Lx.blk ((bn s).getD j 0) = false) ∧ wr = w7) (fun v7 _ => s.size - (intOf v7).toNat)
            case atStart => exact ⟨n, rfl, Nat.le_refl _, hn, hide (fun j h1 h2 => absurd h2 (by omega)), rfl⟩
            case round =>
              obtain ⟨e, rfl, he0, he1, HJ, rfl⟩ := hrel
              by_cases hel : e < s.size
              · have hel' : (e : Int) < s.size := by omega
                have je := IX.out (e : Int) e rfl hel
                have rbe := RB ((bn s).getD e 0)
                by_cases hbe : Lx.blk ((bn s).getD e 0) = true
                · rw [hbe] at rbe
                  generalize ((((bn s).getD e 0 : Nat)) : Int) = y at je rbe
                  have hel : n ≤ e := he0
                  have hes : e ≤ s.size := he1
                  have hrun : Lx.run (fun c => !Lx.blk c) ((bn s).drop n) = e - n := Lx.run_of (by rw [List.length_drop, bn_len]; omega) (fun j hj => by rw [getD_drop, HJ.out (n + j) (by omega) (by omega)]; rfl) (fun hlt2 => by rw [getD_drop, show n + (e - n) = e by omega, hbe]; rfl)
                  have MW := hide (Lx.mid_word MD.out (by rw [bn_len]; exact hlt) hc hb' hrun)
                  have et : bn (s.extract n e) = ((bn s).drop n).take (e - n) := bn_ext s n e
                  rw [← et, show n + (e - n) = e by omega] at MW
                  have hne : n < e := by
                    rcases Nat.lt_or_ge n e with h | h
                    · exact h
                    · exfalso
                      have h0 : 0 < Lx.run (fun c => !Lx.blk c) ((bn s).drop n) := Lx.run_pos (by rw [List.length_drop, bn_len]; omega) (by rw [getD_drop, Nat.add_zero, hb']; rfl)
                      omega
                  have e3 : (s.extract n e).size ≤ 100000 := by rw [ByteArray.size_extract]; have := HM.out; omega
                  have cl := CL _ e3
                  have hn1 : (n : Int) ≤ (e : Int) := by omega
                  have hn2 : (e : Int) ≤ s.size := by omega
                  have HQ := hide hne
                  have LQ := hide (show (L ++ [(⟨Lx.kindK (bn (s.extract n e)), bn (s.extract n e), n⟩ : Lx.Tk)]).length ≤ e by rw [List.length_append]; have := LN.out; simp; omega)
                  have LL := hide (show L.length ≤ 1000000 by have := LN.out; have := HM.out; omega)
                  have hT := hide (bs_bn (s.extract n e)).symm
                  clear e3 et hrun MD LN HJ hc hb hb' hel hes hne he0 he1 hn hlt RB CL IX rb hbe
                  by_cases hE : Lx.kindE (bn (s.extract n e)) = 0
                  · have MD3 := hide (MW.out.1 hE)
                    have hE' : (Lx.kindE (bn (s.extract n e)) : Int) = 0 := by rw [hE]; rfl
                    rw [hE'] at cl
                    have hK := hide (show (Lx.kindK (bn (s.extract n e)) : Int) = (((⟨Lx.kindK (bn (s.extract n e)), bn (s.extract n e), n⟩ : Lx.Tk).kind : Nat) : Int) from rfl)
                    have TC := fun W => hide (rtok_cells W (⟨Lx.kindK (bn (s.extract n e)), bn (s.extract n e), n⟩ : Lx.Tk) (p := (n : Int)) hK.out hT.out rfl)
                    generalize ((Lx.kindK (bn (s.extract n e)) : Nat) : Int) = K at cl hK TC
                    generalize (⟨Lx.kindK (bn (s.extract n e)), bn (s.extract n e), n⟩ : Lx.Tk) = t at *
                    clear hE hE' hK hT MW
                    have BL3 := hide (BL.out.alloc BL.out.size (Obj.cells #[.int .i64 K, .string (s.extract n e), .int .i64 (n : Int)] 36))
                    have OT3 := hide (OT.out.keep (one_alloc wr (Obj.cells #[.int .i64 K, .string (s.extract n e), .int .i64 (n : Int)] 36)))
                    have TC1 := TC wr
                    clear TC
                    go_wp2_with fail
                    refine (rbe _).out.mono ?_
                    rintro e' w' ⟨rfl, rfl⟩
                    go_wp2_with fail
                    refine (cl _).out.mono ?_
                    rintro e' x1 ⟨rfl, rfl⟩
                    go_wp2_with (refine wpList_apR (W := w) BL3.out OT3.out TC1.out LL.out rfl (.tmp 53) (.tmp 61) rfl rfl rfl ?_; intro v3 w3 HO3 HB3)
                    go_roundw
                    case rel => exact ⟨_, e, by go_num, MD3, LQ, HO3, HB3⟩
                    case measure => have := HQ.out; simp [intOf]; omega
                  · have HF := hide (MW.out.2 hE)
                    have hz : (((Lx.kindE (bn (s.extract n e)) : Nat) : Int) != 0) = true := by rw [bne_iff_ne]; omega
                    have HP := hide (show ∀ w', TkQ s w w' (.slice none 0 0) (n : Int) ((Lx.kindE (bn (s.extract n e)) : Nat) : Int) from fun w' => tokQ_bad HS.out HF.out)
                    clear MW HF hE LQ
                    generalize ((Lx.kindE (bn (s.extract n e)) : Nat) : Int) = z at *
                    generalize ((Lx.kindK (bn (s.extract n e)) : Nat) : Int) = K at *
                    go_wp2_with fail
                    refine (rbe _).out.mono ?_
                    rintro e' w' ⟨rfl, rfl⟩
                    go_wp2_with fail
                    refine (cl _).out.mono ?_
                    rintro e' x1 ⟨rfl, rfl⟩
                    go_wp2_with fail
                    exact bodyPost_ret (v := .tuple #[.slice none 0 0, .int .i64 (n : Int), .int .i64 z]) (by simp [results, Try.results14, go_sem]) rfl ⟨_, _, _, rfl, HP.out _, BL.out⟩
                · have hbf : Lx.blk ((bn s).getD e 0) = false := by simpa using hbe
                  have HN := hide (show ∀ j, n ≤ j → j < e + 1 → Lx.blk ((bn s).getD j 0) = false from fun j h1 h2 => (Nat.lt_succ_iff_lt_or_eq.1 h2).elim (fun h => HJ.out j h1 h) (fun h => h ▸ hbf))
                  rw [hbf] at rbe
                  generalize ((((bn s).getD e 0 : Nat)) : Int) = y at je rbe
                  clear hbe hbf HJ
                  go_wp2_with fail
                  refine (rbe _).out.mono ?_
                  rintro e' w' ⟨rfl, rfl⟩
                  go_wp2_with fail
                  go_roundw
                  case rel => exact ⟨e + 1, by go_num, by omega, hel, HN, by simp⟩
                  case measure => simp [intOf]; omega
              · have hel' : ¬ (e : Int) < s.size := by omega
                have hes2 : e = s.size := by omega
                have hel : n ≤ e := he0
                have hes : e ≤ s.size := he1
                have hrun : Lx.run (fun c => !Lx.blk c) ((bn s).drop n) = e - n := Lx.run_of (by rw [List.length_drop, bn_len]; omega) (fun j hj => by rw [getD_drop, HJ.out (n + j) (by omega) (by omega)]; rfl) (fun hlt2 => by rw [getD_drop, show n + (e - n) = e by omega, (absurd hlt2 (by rw [List.length_drop, bn_len]; omega) : Lx.blk ((bn s).getD e 0) = true)]; rfl)
                have MW := hide (Lx.mid_word MD.out (by rw [bn_len]; exact hlt) hc hb' hrun)
                have et : bn (s.extract n e) = ((bn s).drop n).take (e - n) := bn_ext s n e
                rw [← et, show n + (e - n) = e by omega] at MW
                have hne : n < e := by
                  rcases Nat.lt_or_ge n e with h | h
                  · exact h
                  · exfalso
                    have h0 : 0 < Lx.run (fun c => !Lx.blk c) ((bn s).drop n) := Lx.run_pos (by rw [List.length_drop, bn_len]; omega) (by rw [getD_drop, Nat.add_zero, hb']; rfl)
                    omega
                have e3 : (s.extract n e).size ≤ 100000 := by rw [ByteArray.size_extract]; have := HM.out; omega
                have cl := CL _ e3
                have hn1 : (n : Int) ≤ (e : Int) := by omega
                have hn2 : (e : Int) ≤ s.size := by omega
                have HQ := hide hne
                have LQ := hide (show (L ++ [(⟨Lx.kindK (bn (s.extract n e)), bn (s.extract n e), n⟩ : Lx.Tk)]).length ≤ e by rw [List.length_append]; have := LN.out; simp; omega)
                have LL := hide (show L.length ≤ 1000000 by have := LN.out; have := HM.out; omega)
                have hT := hide (bs_bn (s.extract n e)).symm
                clear e3 et hrun MD LN HJ hc hb hb' hel hes hne he0 he1 hn hlt RB CL IX rb hes2
                by_cases hE : Lx.kindE (bn (s.extract n e)) = 0
                · have MD3 := hide (MW.out.1 hE)
                  have hE' : (Lx.kindE (bn (s.extract n e)) : Int) = 0 := by rw [hE]; rfl
                  rw [hE'] at cl
                  have hK := hide (show (Lx.kindK (bn (s.extract n e)) : Int) = (((⟨Lx.kindK (bn (s.extract n e)), bn (s.extract n e), n⟩ : Lx.Tk).kind : Nat) : Int) from rfl)
                  have TC := fun W => hide (rtok_cells W (⟨Lx.kindK (bn (s.extract n e)), bn (s.extract n e), n⟩ : Lx.Tk) (p := (n : Int)) hK.out hT.out rfl)
                  generalize ((Lx.kindK (bn (s.extract n e)) : Nat) : Int) = K at cl hK TC
                  generalize (⟨Lx.kindK (bn (s.extract n e)), bn (s.extract n e), n⟩ : Lx.Tk) = t at *
                  clear hE hE' hK hT MW
                  have BL3 := hide (BL.out.alloc BL.out.size (Obj.cells #[.int .i64 K, .string (s.extract n e), .int .i64 (n : Int)] 36))
                  have OT3 := hide (OT.out.keep (one_alloc wr (Obj.cells #[.int .i64 K, .string (s.extract n e), .int .i64 (n : Int)] 36)))
                  have TC1 := TC wr
                  clear TC
                  go_wp2_with fail
                  refine (cl _).out.mono ?_
                  rintro e' x1 ⟨rfl, rfl⟩
                  go_wp2_with (refine wpList_apR (W := w) BL3.out OT3.out TC1.out LL.out rfl (.tmp 53) (.tmp 61) rfl rfl rfl ?_; intro v3 w3 HO3 HB3)
                  go_roundw
                  case rel => exact ⟨_, e, by go_num, MD3, LQ, HO3, HB3⟩
                  case measure => have := HQ.out; simp [intOf]; omega
                · have HF := hide (MW.out.2 hE)
                  have hz : (((Lx.kindE (bn (s.extract n e)) : Nat) : Int) != 0) = true := by rw [bne_iff_ne]; omega
                  have HP := hide (show ∀ w', TkQ s w w' (.slice none 0 0) (n : Int) ((Lx.kindE (bn (s.extract n e)) : Nat) : Int) from fun w' => tokQ_bad HS.out HF.out)
                  clear MW HF hE LQ
                  generalize ((Lx.kindE (bn (s.extract n e)) : Nat) : Int) = z at *
                  generalize ((Lx.kindK (bn (s.extract n e)) : Nat) : Int) = K at *
                  go_wp2_with fail
                  refine (cl _).out.mono ?_
                  rintro e' x1 ⟨rfl, rfl⟩
                  go_wp2_with fail
                  exact bodyPost_ret (v := .tuple #[.slice none 0 0, .int .i64 (n : Int), .int .i64 z]) (by simp [results, Try.results14, go_sem]) rfl ⟨_, _, _, rfl, HP.out _, BL.out⟩
      · have hge : n = s.size := by omega
        have hlt' : ¬ (n : Int) < s.size := by omega
        have HE := hide (Lx.mid_end MD.out (.inl (by rw [bn_len]; exact hge)))
        have HL := hide (show L.length ≤ 1024 by have := LN.out; omega)
        clear MD LN RB CL IX hge hlt
        go_wp2_with fail
        exact bodyPost_ret (v := .tuple #[u5, .int .i64 0, .int .i64 0]) (by simp [results, Try.results14, go_sem]) rfl ⟨_, _, _, rfl, tokQ_ok HS.out HE.out HL.out OT.out, BL.out⟩

end Go.Proofs.Ytnkjppclhhjdmaa
