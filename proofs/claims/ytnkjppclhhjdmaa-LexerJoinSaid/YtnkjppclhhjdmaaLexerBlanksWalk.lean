/-
  LexerBlanks: the walk.
-/
import Derived.Test.YtnkjppclhhjdmaaRows
import Derived.Test.YtnkjppclhhjdmaaLO
import Derived.WalkKit
import Derived.WalkSpells
import Derived.StillTactics
import Derived.Laws.Pointers
import Derived.Laws.Strings
import Derived.Laws.Strings2
import Derived.Laws.BytesArg
import Derived.LoopTactic
import Derived.Outline
import Derived.Below
import Derived.Laws.Externs
import Derived.Deep.QuietTactic
import Derived.Deep.RegionWith
import Derived.BigQuiet
import Derived.RegionTactic
import Derived.ChangeAlike
import Derived.OwnWalk
import Derived.Laws.OwnMore
import Derived.Laws.Rows
import Derived.Laws.EntriesVeiled
import Derived.Lib.MinMax
import Derived.Lib.Strings
namespace Go.Proofs.Ytnkjppclhhjdmaa
open Go.RowKit
set_option linter.unusedVariables false
set_option linter.unusedSimpArgs false
set_option linter.unnecessarySimpa false

theorem bn_lt (s : ByteArray) : ∀ c ∈ bn s, c < 256 := by
  intro c hc
  unfold bn at hc
  obtain ⟨b, _, rfl⟩ := List.mem_map.1 hc
  exact UInt8.toNat_lt b
theorem bn_bs {l : List Nat} (h : ∀ c ∈ l, c < 256) : bn (bs l) = l := by
  unfold bn bs
  simp only [List.map_map]
  conv => rhs; rw [← List.map_id l]
  apply List.map_congr_left
  intro c hc
  have := h c hc
  show (UInt8.ofNat c).toNat = c
  simp; omega
theorem gap_bn (s : ByteArray) : ∀ (L : List Lx.Tk) (n : Nat) (l : List Nat), Lx.Gap n l L → (∀ c ∈ l, c < 256) → ∀ i, i < L.length → bn (bs (L.getD i ⟨0, [], 0⟩).text) = (L.getD i ⟨0, [], 0⟩).text
  | [], _, _, _, _, i, hi => absurd hi (Nat.not_lt_zero _)
  | t :: L, n, l, h, hl, 0, _ => by
    obtain ⟨B, X, e, _⟩ := h
    exact bn_bs fun c hc => hl c (by rw [e]; simp; exact .inr (.inl hc))
  | t :: L, n, l, h, hl, i + 1, hi => by
    obtain ⟨B, X, e, _, _, _, _, _, _, _, hG⟩ := h
    exact gap_bn s L _ X hG (fun c hc => hl c (by rw [e]; simp; exact .inr (.inr hc))) i (by simpa using hi)
theorem kt_of {L M : List Lx.Tk} (h : M.map (fun t => (t.kind, t.text)) = L.map (fun t => (t.kind, t.text))) : (L.map rwT).map kt = (M.map rwT).map kt := by
  have e : ∀ L : List Lx.Tk, (L.map rwT).map kt = (L.map (fun t => (t.kind, t.text))).map (fun q : Nat × List Nat => ((q.1 : Int), bs q.2)) := by
    intro L; rw [List.map_map, List.map_map]; rfl
  rw [e, e, h]

set_option maxHeartbeats 4000000 in
set_option maxRecDepth 20000 in
theorem lexerBlanks_walk (a0 : ByteArray) (a1 : ByteArray) (a2 : Option Addr) (len2 cap2 : Nat) (z2 : List Int) (w : World) (w0 : a0.size ≤ maxLen) (w1 : a1.size ≤ maxLen) (w2 : IsRow .u8 w a2 len2 cap2 z2) :
    Calls Try.prog 7 #[.string a0, .string a1, .slice a2 len2 cap2] w fun e w' => e = .returned (.bool true) ∧ Below w.heap.size w w' := by
  obtain ⟨bl, hbl⟩ := w2.bytes
  have HX := fun k h => hide (hbl k h)
  clear hbl w2
  obtain ⟨n, hn⟩ : ∃ n : Nat, n = min a0.size 300 := ⟨_, rfl⟩
  have en : min (a0.size : Int) 300 = (n : Int) := by omega
  have hn0 : (n : Int) ≤ a0.size := by omega
  have hn1 : (0 : Int) ≤ n := by omega
  have hsz : (a0.extract 0 n).size ≤ 300 := by rw [ByteArray.size_extract]; omega
  obtain ⟨m1, hm⟩ : ∃ m : Nat, m = min a1.size 100 := ⟨_, rfl⟩
  have em : min (a1.size : Int) 100 = (m1 : Int) := by omega
  have hm0 : (m1 : Int) ≤ a1.size := by omega
  have hm1 : (0 : Int) ≤ m1 := by omega
  have hsz1 : (a1.extract 0 m1).size ≤ 100 := by rw [ByteArray.size_extract]; omega
  have TA := fun (s : ByteArray) (h : s.size ≤ 1024) w => hide (tokenize_any s w (by omega))
  have KN := fun w => hide (known_any w)
  clear hn hm
  have HS := hide hsz
  have HS1 := hide hsz1
  clear hsz hsz1
  go_enter Try.func7, Try.ntmps7
  go_wp2_with fail
  go_quiet (fail)
  go_wp2_with fail
  generalize a0.extract 0 n = s at *
  generalize a1.extract 0 m1 = cm at *
  have BW := hide (below_drewN (Below.refl w.heap.size w) nq)
  refine (TA s (by have := HS.out; omega) _).out.mono ?_
  rintro e w1 ⟨v, p, er, rfl, hp, hb⟩
  unfold TkP at hp
  rw [if_neg (by have := HS.out; omega)] at hp
  obtain ⟨rfl, rfl, hL, ho⟩ := hp
  have BW := hide (BW.out.trans hb)
  clear hb
  generalize ((Lx.tok 0 (bn s)).2.1 : Int) = p at *
  by_cases hE : (Lx.tok 0 (bn s)).2.2 = 0
  · have hE' : ((Lx.tok 0 (bn s)).2.2 : Int) = 0 := by rw [hE]; rfl
    rw [hE']
    have G0 := Lx.gap_of (bn s) 0 hE
    generalize (Lx.tok 0 (bn s)).1 = L at *
    have GS := Lx.gap_sum1 _ _ _ G0
    rw [bn_len] at GS
    have GK := hide (Lx.gap_kinds _ _ _ G0)
    have HT := hide (show ∀ i, i < L.length → bn (bs (L.getD i ⟨0, [], 0⟩).text) = (L.getD i ⟨0, [], 0⟩).text from fun i hi => gap_bn s L 0 (bn s) G0 (fun c hc => bn_lt s c hc) i hi)
    clear G0 hE hE'
    have RD := hide ho.rd
    clear ho
    obtain ⟨a, c, rfl, hr⟩ := RD.out.at
    rw [List.length_map] at hr ⊢
    have HR := fun k h => hide (hr k h)
    clear hr
    obtain ⟨N, hN⟩ : ∃ N, N = L.length := ⟨_, rfl⟩
    rw [← hN] at HR hL GS ⊢
    have HN := hide hN
    clear hN
    by_cases h0 : N = 0
    · subst h0
      clear HX TA
      go_wp2_with fail
      refine (KN _).out.mono ?_
      rintro e w3 ⟨rfl, hb2⟩
      have B2 := hide (BW.out.trans (hb2.mono BW.out.size))
      clear hb2
      go_wp2_with fail
      go_ret
      exact ⟨rfl, B2.out⟩
    · have hN0 : ¬ (N : Int) = 0 := by omega
      have hN1 : ((N : Int) == 0) = false := by rw [beq_eq_false_iff_ne]; exact hN0
      have hN2 : (0 : Int) < N := by omega
      have hN3 : (N : Int) ≤ 1024 := by omega
      obtain ⟨m, hm⟩ : ∃ m, m = min len2 8 := ⟨_, rfl⟩
      obtain ⟨f, hf⟩ : ∃ f : Nat → Nat, ∀ k, f k = bl.getD k 0 % N := ⟨fun k => bl.getD k 0 % N, fun k => rfl⟩
      have HD := hide (show ∀ x, x < 256 → x / N ≤ 255 from fun x hx => by have := Nat.div_le_self x N; omega)
      have sumTs := hide (fun i (h : i < L.length) => Lx.sumT_take_succ h)
      have sumTl := hide (show ∀ i, Lx.sumT (L.take i) ≤ 301 from fun i => by have := Lx.sumT_take_le L i; have := HS.out; omega)
      have HGS := hide GS
      clear GS
      have hm8 : m ≤ 8 := by omega
      have hml : m ≤ len2 := by omega
      have HM := hide hm
      clear hm
      go_wp2_with fail
      go_loopw [10, 11] (fun v10 v11 wr => ∃ (S : ByteArray) (i : Nat), v10 = .string S ∧ v11 = .int .i64 (i : Int) ∧ i ≤ N ∧ Hid (Lx.Lay L i (bn S)) ∧ Hid (S.size ≤ Lx.sumT (L.take i) + i + Lx.cLt f i m) ∧ Hid (Below w1.heap.size w1 wr)) (fun _ v11 _ => N - (intOf v11).toNat)
      case atStart => exact ⟨⟨#[]⟩, 0, rfl, rfl, Nat.zero_le _, hide (Lx.Lay.nil L), hide (Nat.zero_le _), hide (Below.refl _ _)⟩
      case round =>
        obtain ⟨S, i, rfl, rfl, hi, LY, SZ, BL⟩ := hrel
        have szS := sumTl.out i
        have szC := Lx.cLt_le f i m
        have szH := HS.out
        have szG := HGS.out
        by_cases hlt : i < N
        · have hlt' : (i : Int) < N := by omega
          have HSZ := hide (show S.size ≤ 700 by have := SZ.out; omega)
          clear szS szC szH szG
          by_cases hi0 : i = 0
          · have hi0' : ¬ (0 : Int) < (i : Int) := by omega
            have H0 := hide hi0
            clear hi0
            go_wp2_with fail
            go_loopw [10, 12] (fun v10 v12 wr2 => ∃ (S2 : ByteArray) (k : Nat), v10 = .string S2 ∧ v12 = .int .i64 (k : Int) ∧ k ≤ m ∧ Hid (∃ C, bn S2 = bn S ++ C ∧ C.all Lx.blk = true ∧ C.length = Lx.cEq f i k) ∧ Hid (Below wr.heap.size wr wr2)) (fun _ v12 _ => m - (intOf v12).toNat)
            case atStart => exact ⟨S, 0, rfl, rfl, Nat.zero_le _, hide ⟨[], by rw [List.append_nil], rfl, rfl⟩, hide (Below.refl _ _)⟩
            case round =>
              obtain ⟨S2, k, rfl, rfl, hkm, HC, BL2⟩ := hrel
              by_cases hk : k < m
              · have hk1 : (k : Int) < len2 := by have := HM.out; omega
                have hk2 : (k : Int) < 8 := by omega
                obtain ⟨gb, ob, rfl, sb, xb, hx⟩ := (HX k (by have := HM.out; omega)).out
                have xb := ((BW.out.trans ((BL.out.trans (BL2.out.mono BL.out.size)).mono BW.out.size)).cell (p := ⟨gb, _, none⟩) sb).trans xb
                obtain ⟨x, hxe⟩ : ∃ x, x = bl.getD k 0 := ⟨_, rfl⟩
                rw [← hxe] at xb hx
                obtain ⟨q1, q2, q3, q4⟩ := rem_facts x N
                have HF := hide (show f k = x % N by rw [hf, hxe])
                have HS2 : (S2.size : Int) ≤ 2000 := by
                  obtain ⟨C, c1, _, c3⟩ := HC.out
                  have := congrArg List.length c1
                  rw [List.length_append, bn_len, bn_len] at this
                  have := Lx.cEq_le f i k
                  have := HSZ.out
                  omega
                have D0 := HD.out x hx
                obtain ⟨d, hd⟩ : ∃ d, d = x / N := ⟨_, rfl⟩
                rw [← hd] at q3 q4 D0
                obtain ⟨r, hr⟩ : ∃ r, r = x % N := ⟨_, rfl⟩
                rw [← hr] at q1 q2 HF
                have hx0 : (x : Int) < 256 := by omega
                have hd0 : (d : Int) ≤ 255 := by omega
                have xb2 := (((Below.refl wr.heap.size wr).alloc (Nat.le_refl _) (Obj.cells #[.string ⟨#[32]⟩, .string ⟨#[9]⟩] 9)).cell (p := ⟨gb, ob + k, none⟩) (show gb < _ by have := BW.out.size; have := BL.out.size; have := BL2.out.size; omega)).trans xb
                clear hxe sb hd hr hx D0 HX
                by_cases hri : r = i
                · have hri' : (r : Int) = (i : Int) := by omega
                  rw [hri'] at q1 q2
                  have hz : d % 2 = 0 ∨ d % 2 = 1 := by omega
                  have E3 := hide (show Lx.cEq f i (k + 1) = Lx.cEq f i k + 1 by rw [Lx.cEq_succ, HF.out, if_pos hri])
                  rcases hz with hz | hz
                  · have q6 : (d : Int) % 2 = 0 := by omega
                    have q5 : (d : Int).tmod 2 = 0 := by rw [Int.tmod_eq_emod_of_nonneg (by omega)]; exact q6
                    have A2 : ∀ w : World, (Op.stringOp .add S2 ⟨#[32]⟩).run Try.prog w = .ok (.string (S2 ++ ⟨#[32]⟩)) w := fun w => run_string_add w _ _ (by omega) (by decide)
                    have HC2 := hide (show ∃ C, bn (S2 ++ ⟨#[32]⟩) = bn S ++ C ∧ C.all Lx.blk = true ∧ C.length = Lx.cEq f i (k + 1) by
                      obtain ⟨C, c1, c2, c3⟩ := HC.out
                      exact ⟨C ++ [32], by rw [bn_app, c1, List.append_assoc]; rfl, by rw [List.all_append, c2]; rfl, by rw [E3.out, List.length_append, c3]; rfl⟩)
                    generalize S2 ++ ⟨#[32]⟩ = S3 at *
                    clear hz hri HC HF HD HS2
                    go_wp2_with fail
                    go_roundw
                    case rel => exact ⟨S3, k + 1, rfl, by go_num, by omega, HC2, hide (BL2.out.alloc BL2.out.size _)⟩
                    case measure => simp [intOf]; omega
                  · have q6 : (d : Int) % 2 = 1 := by omega
                    have q5 : (d : Int).tmod 2 = 1 := by rw [Int.tmod_eq_emod_of_nonneg (by omega)]; exact q6
                    have A2 : ∀ w : World, (Op.stringOp .add S2 ⟨#[9]⟩).run Try.prog w = .ok (.string (S2 ++ ⟨#[9]⟩)) w := fun w => run_string_add w _ _ (by omega) (by decide)
                    have HC2 := hide (show ∃ C, bn (S2 ++ ⟨#[9]⟩) = bn S ++ C ∧ C.all Lx.blk = true ∧ C.length = Lx.cEq f i (k + 1) by
                      obtain ⟨C, c1, c2, c3⟩ := HC.out
                      exact ⟨C ++ [9], by rw [bn_app, c1, List.append_assoc]; rfl, by rw [List.all_append, c2]; rfl, by rw [E3.out, List.length_append, c3]; rfl⟩)
                    generalize S2 ++ ⟨#[9]⟩ = S3 at *
                    clear hz hri HC HF HD HS2
                    go_wp2_with fail
                    go_roundw
                    case rel => exact ⟨S3, k + 1, rfl, by go_num, by omega, HC2, hide (BL2.out.alloc BL2.out.size _)⟩
                    case measure => simp [intOf]; omega
                · have hri' : ((r : Int) == (i : Int)) = false := by rw [beq_eq_false_iff_ne]; omega
                  have E3 := show Lx.cEq f i (k + 1) = Lx.cEq f i k by rw [Lx.cEq_succ, HF.out, if_neg hri]; rfl
                  rw [← E3] at HC
                  clear E3 hri HF HD HS2
                  go_wp2_with fail
                  go_roundw
                  case rel => exact ⟨S2, k + 1, rfl, by go_num, by omega, HC, BL2⟩
                  case measure => simp [intOf]; omega
              · have hk1 : (k : Int) < len2 → ¬ (k : Int) < 8 := by have := HM.out; omega
                obtain rfl : k = m := by omega
                have BL3 := BL.out.trans (BL2.out.mono BL.out.size)
                obtain ⟨C, c1, c2, c3⟩ := HC.out
                have LY2 := LY.out.step (B := [] ++ C) (by rw [← HN.out]; exact hlt) (by rw [List.all_append, c2]; rfl) (by intro h; have := H0.out; omega)
                have SZ2 := sumTs.out i (by rw [← HN.out]; exact hlt)
                have SC := Lx.cLt_step f i k
                have S2sz : S2.size = S.size + C.length := by
                  have := congrArg List.length c1
                  rwa [List.length_append, bn_len, bn_len] at this
                have HS2 : (S2.size : Int) ≤ 2000 := by
                  have := Lx.cEq_le f i k
                  have := HSZ.out
                  omega
                obtain ⟨g, o, rr, e, ra, sg, y0, y1, y2⟩ := (HR i hlt).out
                have et : rr.t = bs (L.getD i ⟨0, [], 0⟩).text := by
                  rw [List.getElem?_map, List.getElem?_eq_getElem (by rw [← HN.out]; exact hlt)] at e
                  obtain rfl := Option.some.inj e
                  rw [List.getD_eq_getElem?_getD, List.getElem?_eq_getElem (by rw [← HN.out]; exact hlt)]; rfl
                rw [et] at y1
                have y1 := (BL3.cell (p := ⟨g, _, none⟩) sg).trans y1
                have TX := hide (HT.out i (by rw [← HN.out]; exact hlt))
                obtain ⟨Y, hY⟩ : ∃ Y, Y = bs (L.getD i ⟨0, [], 0⟩).text := ⟨_, rfl⟩
                have hYl : Y.size = (L.getD i ⟨0, [], 0⟩).text.length := by rw [hY, bs_len]
                have hYb : bn Y = (L.getD i ⟨0, [], 0⟩).text := by rw [hY]; exact TX.out
                rw [← hY] at y1
                rw [← hYb] at LY2
                rw [← hYl] at SZ2
                have hYi : (Y.size : Int) ≤ 2000 := by have := sumTl.out (i + 1); omega
                have A3 : ∀ w : World, (Op.stringOp .add S2 Y).run Try.prog w = .ok (.string (S2 ++ Y)) w := fun w => run_string_add w _ _ (by omega) (by omega)
                have LY3 := hide (show Lx.Lay L (i + 1) (bn (S2 ++ Y)) by rw [bn_app, c1, List.append_assoc]; rw [List.nil_append] at LY2; exact LY2)
                have SZ3 := hide (show (S2 ++ Y).size ≤ Lx.sumT (L.take (i + 1)) + (i + 1) + Lx.cLt f (i + 1) k by rw [ByteArray.size_append, SZ2, SC]; have := SZ.out; omega)
                generalize S2 ++ Y = S4 at *
                obtain rfl := ra
                clear LY2 SZ2 SC S2sz HS2 c1 c2 c3 C HC e et TX hY hYl hYb hYi y0 y2 LY sumTs sumTl HT HR
                by_cases hq : (k : Int) < len2
                · have hq8 := hk1 hq
                  clear hk1
                  go_wp2_with fail
                  go_roundw
                  case rel => exact ⟨S4, i + 1, rfl, by go_num, hlt, LY3, SZ3, hide BL3⟩
                  case measure => simp [intOf]; omega
                · clear hk1
                  go_wp2_with fail
                  go_roundw
                  case rel => exact ⟨S4, i + 1, rfl, by go_num, hlt, LY3, SZ3, hide BL3⟩
                  case measure => simp [intOf]; omega
          · have hi0' : (0 : Int) < (i : Int) := by omega
            have A1 : ∀ w : World, (Op.stringOp .add S ⟨#[32]⟩).run Try.prog w = .ok (.string (S ++ ⟨#[32]⟩)) w := fun w => run_string_add w _ _ (by have := HSZ.out; omega) (by decide)
            obtain ⟨S1, hS1⟩ : ∃ S1, S1 = S ++ ⟨#[32]⟩ := ⟨_, rfl⟩
            have hb1 := hide (show bn S1 = bn S ++ [32] by rw [hS1, bn_app]; rfl)
            have HSZ1 := hide (show S1.size ≤ 701 ∧ S1.size = S.size + 1 by have := HSZ.out; rw [hS1, ByteArray.size_append]; have : (⟨#[32]⟩ : ByteArray).size = 1 := rfl; omega)
            rw [← hS1] at A1
            clear hS1
            go_wp2_with fail
            go_loopw [10, 12] (fun v10 v12 wr2 => ∃ (S2 : ByteArray) (k : Nat), v10 = .string S2 ∧ v12 = .int .i64 (k : Int) ∧ k ≤ m ∧ Hid (∃ C, bn S2 = bn S1 ++ C ∧ C.all Lx.blk = true ∧ C.length = Lx.cEq f i k) ∧ Hid (Below wr.heap.size wr wr2)) (fun _ v12 _ => m - (intOf v12).toNat)
            case atStart => exact ⟨S1, 0, rfl, rfl, Nat.zero_le _, hide ⟨[], by rw [List.append_nil], rfl, rfl⟩, hide (Below.refl _ _)⟩
            case round =>
              obtain ⟨S2, k, rfl, rfl, hkm, HC, BL2⟩ := hrel
              by_cases hk : k < m
              · have hk1 : (k : Int) < len2 := by have := HM.out; omega
                have hk2 : (k : Int) < 8 := by omega
                obtain ⟨gb, ob, rfl, sb, xb, hx⟩ := (HX k (by have := HM.out; omega)).out
                have xb := ((BW.out.trans ((BL.out.trans (BL2.out.mono BL.out.size)).mono BW.out.size)).cell (p := ⟨gb, _, none⟩) sb).trans xb
                obtain ⟨x, hxe⟩ : ∃ x, x = bl.getD k 0 := ⟨_, rfl⟩
                rw [← hxe] at xb hx
                obtain ⟨q1, q2, q3, q4⟩ := rem_facts x N
                have HF := hide (show f k = x % N by rw [hf, hxe])
                have HS2 : (S2.size : Int) ≤ 2000 := by
                  obtain ⟨C, c1, _, c3⟩ := HC.out
                  have := congrArg List.length c1
                  rw [List.length_append, bn_len, bn_len] at this
                  have := Lx.cEq_le f i k
                  have := HSZ1.out
                  omega
                have D0 := HD.out x hx
                obtain ⟨d, hd⟩ : ∃ d, d = x / N := ⟨_, rfl⟩
                rw [← hd] at q3 q4 D0
                obtain ⟨r, hr⟩ : ∃ r, r = x % N := ⟨_, rfl⟩
                rw [← hr] at q1 q2 HF
                have hx0 : (x : Int) < 256 := by omega
                have hd0 : (d : Int) ≤ 255 := by omega
                have xb2 := (((Below.refl wr.heap.size wr).alloc (Nat.le_refl _) (Obj.cells #[.string ⟨#[32]⟩, .string ⟨#[9]⟩] 9)).cell (p := ⟨gb, ob + k, none⟩) (show gb < _ by have := BW.out.size; have := BL.out.size; have := BL2.out.size; omega)).trans xb
                clear hxe sb hd hr hx D0 HX
                by_cases hri : r = i
                · have hri' : (r : Int) = (i : Int) := by omega
                  rw [hri'] at q1 q2
                  have hz : d % 2 = 0 ∨ d % 2 = 1 := by omega
                  have E3 := hide (show Lx.cEq f i (k + 1) = Lx.cEq f i k + 1 by rw [Lx.cEq_succ, HF.out, if_pos hri])
                  rcases hz with hz | hz
                  · have q6 : (d : Int) % 2 = 0 := by omega
                    have q5 : (d : Int).tmod 2 = 0 := by rw [Int.tmod_eq_emod_of_nonneg (by omega)]; exact q6
                    have A2 : ∀ w : World, (Op.stringOp .add S2 ⟨#[32]⟩).run Try.prog w = .ok (.string (S2 ++ ⟨#[32]⟩)) w := fun w => run_string_add w _ _ (by omega) (by decide)
                    have HC2 := hide (show ∃ C, bn (S2 ++ ⟨#[32]⟩) = bn S1 ++ C ∧ C.all Lx.blk = true ∧ C.length = Lx.cEq f i (k + 1) by
                      obtain ⟨C, c1, c2, c3⟩ := HC.out
                      exact ⟨C ++ [32], by rw [bn_app, c1, List.append_assoc]; rfl, by rw [List.all_append, c2]; rfl, by rw [E3.out, List.length_append, c3]; rfl⟩)
                    generalize S2 ++ ⟨#[32]⟩ = S3 at *
                    clear hz hri HC HF HD HS2
                    go_wp2_with fail
                    go_roundw
                    case rel => exact ⟨S3, k + 1, rfl, by go_num, by omega, HC2, hide (BL2.out.alloc BL2.out.size _)⟩
                    case measure => simp [intOf]; omega
                  · have q6 : (d : Int) % 2 = 1 := by omega
                    have q5 : (d : Int).tmod 2 = 1 := by rw [Int.tmod_eq_emod_of_nonneg (by omega)]; exact q6
                    have A2 : ∀ w : World, (Op.stringOp .add S2 ⟨#[9]⟩).run Try.prog w = .ok (.string (S2 ++ ⟨#[9]⟩)) w := fun w => run_string_add w _ _ (by omega) (by decide)
                    have HC2 := hide (show ∃ C, bn (S2 ++ ⟨#[9]⟩) = bn S1 ++ C ∧ C.all Lx.blk = true ∧ C.length = Lx.cEq f i (k + 1) by
                      obtain ⟨C, c1, c2, c3⟩ := HC.out
                      exact ⟨C ++ [9], by rw [bn_app, c1, List.append_assoc]; rfl, by rw [List.all_append, c2]; rfl, by rw [E3.out, List.length_append, c3]; rfl⟩)
                    generalize S2 ++ ⟨#[9]⟩ = S3 at *
                    clear hz hri HC HF HD HS2
                    go_wp2_with fail
                    go_roundw
                    case rel => exact ⟨S3, k + 1, rfl, by go_num, by omega, HC2, hide (BL2.out.alloc BL2.out.size _)⟩
                    case measure => simp [intOf]; omega
                · have hri' : ((r : Int) == (i : Int)) = false := by rw [beq_eq_false_iff_ne]; omega
                  have E3 := show Lx.cEq f i (k + 1) = Lx.cEq f i k by rw [Lx.cEq_succ, HF.out, if_neg hri]; rfl
                  rw [← E3] at HC
                  clear E3 hri HF HD HS2
                  go_wp2_with fail
                  go_roundw
                  case rel => exact ⟨S2, k + 1, rfl, by go_num, by omega, HC, BL2⟩
                  case measure => simp [intOf]; omega
              · have hk1 : (k : Int) < len2 → ¬ (k : Int) < 8 := by have := HM.out; omega
                obtain rfl : k = m := by omega
                have BL3 := BL.out.trans (BL2.out.mono BL.out.size)
                obtain ⟨C, c1, c2, c3⟩ := HC.out
                have LY2 := LY.out.step (B := [32] ++ C) (by rw [← HN.out]; exact hlt) (by rw [List.all_append, c2]; rfl) (by intro h; simp)
                have SZ2 := sumTs.out i (by rw [← HN.out]; exact hlt)
                have SC := Lx.cLt_step f i k
                have S2sz : S2.size = S1.size + C.length := by
                  have := congrArg List.length c1
                  rwa [List.length_append, bn_len, bn_len] at this
                have HS2 : (S2.size : Int) ≤ 2000 := by
                  have := Lx.cEq_le f i k
                  have := HSZ1.out
                  omega
                obtain ⟨g, o, rr, e, ra, sg, y0, y1, y2⟩ := (HR i hlt).out
                have et : rr.t = bs (L.getD i ⟨0, [], 0⟩).text := by
                  rw [List.getElem?_map, List.getElem?_eq_getElem (by rw [← HN.out]; exact hlt)] at e
                  obtain rfl := Option.some.inj e
                  rw [List.getD_eq_getElem?_getD, List.getElem?_eq_getElem (by rw [← HN.out]; exact hlt)]; rfl
                rw [et] at y1
                have y1 := (BL3.cell (p := ⟨g, _, none⟩) sg).trans y1
                have TX := hide (HT.out i (by rw [← HN.out]; exact hlt))
                obtain ⟨Y, hY⟩ : ∃ Y, Y = bs (L.getD i ⟨0, [], 0⟩).text := ⟨_, rfl⟩
                have hYl : Y.size = (L.getD i ⟨0, [], 0⟩).text.length := by rw [hY, bs_len]
                have hYb : bn Y = (L.getD i ⟨0, [], 0⟩).text := by rw [hY]; exact TX.out
                rw [← hY] at y1
                rw [← hYb] at LY2
                rw [← hYl] at SZ2
                have hYi : (Y.size : Int) ≤ 2000 := by have := sumTl.out (i + 1); omega
                have A3 : ∀ w : World, (Op.stringOp .add S2 Y).run Try.prog w = .ok (.string (S2 ++ Y)) w := fun w => run_string_add w _ _ (by omega) (by omega)
                have LY3 := hide (show Lx.Lay L (i + 1) (bn (S2 ++ Y)) by rw [bn_app, c1, hb1.out, List.append_assoc, List.append_assoc]; rw [List.append_assoc] at LY2; exact LY2)
                have SZ3 := hide (show (S2 ++ Y).size ≤ Lx.sumT (L.take (i + 1)) + (i + 1) + Lx.cLt f (i + 1) k by rw [ByteArray.size_append, SZ2, SC]; have := HSZ1.out; have := SZ.out; omega)
                generalize S2 ++ Y = S4 at *
                obtain rfl := ra
                clear LY2 SZ2 SC S2sz HS2 c1 c2 c3 C HC e et TX hY hYl hYb hYi y0 y2 LY sumTs sumTl HT HR
                by_cases hq : (k : Int) < len2
                · have hq8 := hk1 hq
                  clear hk1
                  go_wp2_with fail
                  go_roundw
                  case rel => exact ⟨S4, i + 1, rfl, by go_num, hlt, LY3, SZ3, hide BL3⟩
                  case measure => simp [intOf]; omega
                · clear hk1
                  go_wp2_with fail
                  go_roundw
                  case rel => exact ⟨S4, i + 1, rfl, by go_num, hlt, LY3, SZ3, hide BL3⟩
                  case measure => simp [intOf]; omega
        · have hlt' : ¬ (i : Int) < N := by omega
          obtain rfl : i = N := by omega
          rw [HN.out] at LY
          obtain ⟨t1, t2⟩ := Lx.tail_ok (bn cm)
          obtain ⟨M, hM, hm2⟩ := LY.out.tok GK.out t1 t2
          have hS : S.size ≤ 700 := by have := SZ.out; omega
          have A1 : ∀ w : World, (Op.stringOp .add S ⟨#[32, 35]⟩).run Try.prog w = .ok (.string (S ++ ⟨#[32, 35]⟩)) w := fun w => run_string_add w _ _ (by omega) (by decide)
          have hs2 : (⟨#[32, 35]⟩ : ByteArray).size = 2 := rfl
          have A2 : ∀ w : World, (Op.stringOp .add (S ++ ⟨#[32, 35]⟩) cm).run Try.prog w = .ok (.string (S ++ ⟨#[32, 35]⟩ ++ cm)) w := fun w => run_string_add w _ _ (by rw [ByteArray.size_append]; omega) (by have := HS1.out; omega)
          have hM' : Lx.tok 0 (bn (S ++ ⟨#[32, 35]⟩ ++ cm)) = (M, 0, 0) := by rw [bn_app, bn_app, List.append_assoc]; exact hM
          have hUs : (S ++ ⟨#[32, 35]⟩ ++ cm).size ≤ 1024 := by rw [ByteArray.size_append, ByteArray.size_append]; have := HS1.out; omega
          generalize S ++ ⟨#[32, 35]⟩ = U1 at *
          generalize U1 ++ cm = U at *
          have T2 := fun w => TA U hUs w
          have HM2 := hide hM'
          have HU := hide hUs
          have hmm := hide hm2
          clear hM hM' hm2 hUs hs2 hS t1 t2 TA HX szS szC szH szG LY SZ HR
          go_wp2_with fail
          refine (T2 _).out.mono ?_
          rintro e w2 ⟨v2, p2, er2, rfl, hp, hb⟩
          unfold TkP at hp
          rw [if_neg (by have := HU.out; omega), HM2.out] at hp
          obtain ⟨rfl, rfl, hL2, ho2⟩ := hp
          have BL2 := hide (BL.out.trans (hb.mono BL.out.size))
          have RD2 := hide ho2.rd
          clear ho2 hb
          go_wp2_with fail
          refine (KN _).out.mono ?_
          rintro e w3 ⟨rfl, hb⟩
          have EQ := fun W (hW : Below w1.heap.size w1 W) (hW2 : Below w2.heap.size w2 W) => hide (equal_any _ _ _ _ W (RD.out.keep hW) (RD2.out.keep hW2) (by rw [List.length_map]; have := HN.out; omega) (by rw [List.length_map]; omega))
          have BL3 := hide (BL2.out.trans (hb.mono BL2.out.size))
          have B23 := hide hb
          clear hb
          have hd : decide ((L.map rwT).map kt = (M.map rwT).map kt) = true := decide_eq_true (kt_of hmm.out)
          rw [hd] at EQ
          have EQ3 := EQ w3 BL3.out B23.out
          clear EQ hd
          have BW3 := hide (BW.out.trans (BL3.out.mono BW.out.size))
          rw [List.length_map, ← HN.out] at EQ3
          go_wp2_with fail
          refine EQ3.out.mono ?_
          rintro e w4 ⟨rfl, hb⟩
          have BW4 := hide (BW3.out.trans (hb.mono BW3.out.size))
          clear hb
          go_wp2_with fail
          go_ret
          exact ⟨rfl, BW4.out⟩
  · have hz : (((Lx.tok 0 (bn s)).2.2 : Int) != 0) = true := by rw [bne_iff_ne]; omega
    generalize ((Lx.tok 0 (bn s)).2.2 : Int) = z at *
    clear ho TA hL hE HX
    go_wp2_with fail
    refine (KN _).out.mono ?_
    rintro e w3 ⟨rfl, hb2⟩
    have B2 := hide (BW.out.trans (hb2.mono BW.out.size))
    clear hb2
    go_wp2_with fail
    go_ret
    exact ⟨rfl, B2.out⟩

end Go.Proofs.Ytnkjppclhhjdmaa
