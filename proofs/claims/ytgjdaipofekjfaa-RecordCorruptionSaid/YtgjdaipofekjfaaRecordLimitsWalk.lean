/-
  The walk of RecordLimits.
-/
import Derived.Test.YtgjdaipofekjfaaRD
namespace Go.Proofs.Ytgjdaipofekjfaa
open Go.RowKit
set_option linter.unusedVariables false
set_option linter.unusedSimpArgs false
set_option linter.unnecessarySimpa false

theorem Ow.made {w : World} {base N : Nat} {v : Value} (h : w.ownsRow base 5 1 v N (madeCells (Value.int .u8 0).cells (N * 1)).toList) : Ow w base v (List.replicate N 0) := by
  refine ⟨fun c hc => by rw [List.eq_of_mem_replicate hc]; decide, ?_⟩
  rw [List.length_replicate]
  have e : cB (List.replicate N 0) = (madeCells (Value.int .u8 0).cells (N * 1)).toList := by
    rw [Nat.mul_one, show (Value.int .u8 0).cells = #[Value.int .u8 0] from rfl, toList_madeCells_one]
    simp [cB]
  rw [e]; exact h
theorem Ow.at {w : World} {base : Nat} {a : Option Addr} {n c k : Nat} {l : List Nat} (h : Ow w base (.slice a n c) l) (hk : k < n) :
    ∃ g, a = some ⟨g, 0, none⟩ ∧ Hid (base ≤ g) ∧ w.cell? ⟨g, k, none⟩ = some (.int .u8 ((l.getD k 0 : Nat) : Int)) ∧ w.frozen? ⟨g, k, none⟩ = false ∧
      Hid (∀ d : Nat, d < 256 → Ow (w.setCell ⟨g, k, none⟩ (.int .u8 (d : Int))) base (.slice a n c) (l.set k d) ∧ w.grownBy (w.setCell ⟨g, k, none⟩ (.int .u8 (d : Int))) (some g)) := by
  obtain ⟨hb, ho⟩ := h
  have hl : l.length = n := by
    rcases ho.2 with ⟨hv, h0⟩ | ⟨g, cap, cur, hv, _⟩
    · simp at hv; omega
    · simp at hv; exact hv.2.1.symm
  have ho' := ho
  rcases ho.2 with ⟨hv, h0⟩ | ⟨g, cap, cur, hv, hbg, hg, r⟩
  · simp at hv; omega
  · simp at hv
    obtain ⟨rfl, e1, rfl⟩ := hv
    subst hl
    have hc := World.ownsRow.cellAt ho' k (by omega)
    refine ⟨g, rfl, hbg, ?_, World.ownsRow.frozenAt ho' k, fun d hd => ?_⟩
    · rw [hc]; simp [cB, hk]
    · have st := World.ownsRow.stored ho' k (.int .u8 (d : Int))
      refine ⟨⟨?_, ?_⟩, st.2⟩
      · intro x hx
        rcases List.mem_or_eq_of_mem_set hx with h | h
        · exact hb x h
        · rw [h]; exact hd
      · have e : cB (l.set k d) = (cB l).set k (.int .u8 (d : Int)) := by simp [cB, List.map_set]
        rw [List.length_set, e]; exact st.1
theorem allOk_one {l : List Nat} (h : l.length ≤ 1048576) : AllOk [l] = true := by simp [AllOk, h]
theorem allOk_one_no {l : List Nat} (h : 1048576 < l.length) : AllOk [l] = false := by simp [AllOk]; omega
theorem allOk_two_no {k l : List Nat} (h : 1048576 < l.length) : AllOk [k, l] = false := by simp [AllOk]; omega
theorem EaP.yes {w w' : World} {L : List (List Nat)} {e : Ending} (h : EaP w L e w') (ho : AllOk L = true) : ∃ b, e = .returned (.tuple #[b, .int .i64 0]) ∧ Ow w' w.heap.size b (Crc.recs L) ∧ Below w.heap.size w w' := by
  obtain ⟨b, h1, h2, h3⟩ := h
  rw [if_pos ho] at h1 h2
  exact ⟨b, h1, h2, h3⟩
theorem EaP.no {w w' : World} {L : List (List Nat)} {e : Ending} (h : EaP w L e w') (ho : AllOk L = false) : ∃ a c, e = .returned (.tuple #[.slice a 0 c, .int .i64 5]) ∧ Below w.heap.size w w' := by
  obtain ⟨b, h1, h2, h3⟩ := h
  rw [if_neg (by rw [ho]; decide)] at h1 h2
  obtain ⟨a, c, rfl⟩ := h2.form
  exact ⟨a, c, h1, h3⟩

set_option maxHeartbeats 8000000 in
set_option maxRecDepth 100000 in
theorem recordLimits_walk (a0 : Int) (a1 : Option Addr) (len1 cap1 : Nat) (z1 : List Int) (w : World) (w0 : (Lit.int .u8 a0).wf = true) (w1 : IsRow .u8 w a1 len1 cap1 z1) :
    Calls Try.prog 11 #[.int .u8 a0, .slice a1 len1 cap1] w fun e w' => e = .returned (.bool true) ∧ Below w.heap.size w w' := by
  obtain ⟨lp, hlp, hrp⟩ := w1.rd
  obtain ⟨n, hn⟩ : ∃ n, n = min len1 200 := ⟨_, rfl⟩
  obtain ⟨hp, hnp⟩ := hrp.first hlp (n := n) (by omega)
  have en : min (len1 : Int) 200 = (n : Int) := by omega
  have LP := hide (show (lp.take n).length ≤ 200 by rw [List.length_take]; omega)
  have hnp' : (n : Int) ≤ cap1 := by omega
  generalize lp.take n = P at *
  have b0 : 0 ≤ a0 ∧ a0 < 256 := by
    have := w0
    simp [Lit.wf, IntKind.min, IntKind.max, IntKind.signed, IntKind.bits] at this
    omega
  obtain ⟨ba, bb⟩ := b0
  obtain ⟨N, hN⟩ : ∃ N : Nat, (N : Int) = 1048576 + a0 := ⟨(1048576 + a0).toNat, by omega⟩
  have HN := hide hN
  have HP := hide hp
  obtain ⟨i0, hi, hz0, hz1, hz2⟩ := info_parts Try.info5
  have HI := hide hi
  have HZ0 := hide hz0
  have HZ1 := hide hz1
  have HZ2 := hide hz2
  have hcase : (a0 == 0) = true ∧ Hid (N ≤ 1048576) ∨ (a0 == 0) = false ∧ Hid (1048576 < N) := by
    by_cases h : a0 = 0
    · left; exact ⟨by simpa using h, hide (by omega)⟩
    · right; exact ⟨by simpa using h, hide (by omega)⟩
  clear w0 w1 hlp hrp hp hn hnp hN hi hz0 hz1 hz2
  obtain ⟨M, hM⟩ : ∃ M : Nat, (M : Int) = 1048577 := ⟨1048577, rfl⟩
  have HM := hide hM
  clear hM
  have XE := hide (allOk_one (l := P) (by have := LP.out; omega))
  have HRP := hide (Crc.nxt_recd HP.out.1 (by have := LP.out; omega) [])
  have HRL := hide (Crc.recd_len P)
  have KN := fun w => hide (known_any w)
  obtain ⟨M, hM⟩ : ∃ M : Nat, (M : Int) = 1048577 := ⟨1048577, rfl⟩
  have HM := hide hM
  clear hM
  have XE := hide (allOk_one (l := P) (by have := LP.out; omega))
  have HRP := hide (Crc.nxt_recd HP.out.1 (by have := LP.out; omega) [])
  have HRL := hide (Crc.recd_len P)
  have KN := fun w => hide (known_any w)
  obtain ⟨M, hM⟩ : ∃ M : Nat, (M : Int) = 1048577 := ⟨1048577, rfl⟩
  have HM := hide hM
  clear hM
  have XE := hide (allOk_one (l := P) (by have := LP.out; omega))
  have HRP := hide (Crc.nxt_recd HP.out.1 (by have := LP.out; omega) [])
  have HRL := hide (Crc.recd_len P)
  have KN := fun w => hide (known_any w)
  rcases hcase with ⟨q0, HC⟩ | ⟨q0, HC⟩
  · go_enter Try.func11, Try.ntmps11
    go_wp2_with (at_make; refine wpList_make_full _ rfl (.tmp 23) (.tmp 23) 22 rfl w.heap.size 5 i0 (.int .u8 0) 1 Try.underlying22 HI.out HZ0.out HZ1.out .i64 .i64 _ _ N rfl rfl HN.out.symm HN.out.symm (by rw [HZ2.out]; have := HN.out; omega) (by have := HN.out; unfold maxLen; omega) (Nat.le_refl _) ?_; intro w1 ho1 hg1)
    have B1 := hide ((Below.refl w.heap.size w).grown hg1 (Nat.le_refl _) (fun k hk => by cases hk))
    refine (enc_any _ _ w1 (Ow.made ho1).rd).mono ?_
    clear ho1 hg1
    intro e w2 he
    obtain ⟨b, rfl, _, hb⟩ := he.yes (allOk_one (by rw [List.length_replicate]; exact HC.out))
    have B2 := hide (B1.out.trans (hb.mono B1.out.size))
    clear he hb
    go_wp2_with (at_make; refine wpList_make_full _ rfl (.const (.int .i64 1048577)) (.const (.int .i64 1048577)) 22 rfl w.heap.size 5 i0 (.int .u8 0) 1 Try.underlying22 HI.out HZ0.out HZ1.out .i64 .i64 _ _ M rfl rfl HM.out.symm HM.out.symm (by rw [HZ2.out]; have := HM.out; omega) (by have := HM.out; unfold maxLen; omega) B2.out.size ?_; intro w3 ho3 hg3)
    have B3 := hide (B2.out.grown hg3 B2.out.size (fun k hk => by cases hk))
    have O3 := hide (Ow.made ho3).rd
    clear ho3 hg3
    have RP3 := hide (rdp_two (HP.out.keep B3.out) O3.out)
    have B4 := hide (B3.out.trans ((one_blk w3 (.cells #[.slice a1 n cap1, .slice (some ⟨w2.heap.size, 0, none⟩) M M] 22)).mono B3.out.size))
    refine (encall_any _ _ _ _ RP3.out).mono ?_
    intro e w5 he
    obtain ⟨ac, cc, rfl, hb⟩ := he.no (allOk_two_no (by rw [List.length_replicate]; have := HM.out; omega))
    have B5 := hide (B4.out.trans (hb.mono B4.out.size))
    clear he hb RP3 O3
    go_wp2_with fail
    refine (enc_any _ _ w5 (HP.out.keep B5.out)).mono ?_
    intro e w6 he
    obtain ⟨x, rfl, ho, hb⟩ := he.yes XE.out
    have B6 := hide (B5.out.trans (hb.mono B5.out.size))
    have O6 := hide (show Ow w6 w5.heap.size x (Crc.recd P) by simpa [Crc.recs] using ho)
    clear he ho hb
    go_wp2_with fail
    refine (next_any _ _ w6 O6.out.rd (by rw [HRL.out]; have := LP.out; omega)).mono ?_
    rintro e w7 ⟨y, rfl, hy, hb⟩
    have B7 := hide (B6.out.trans (hb.mono B6.out.size))
    have O7 := hide ((O6.out.keep hb).low B5.out.size)
    have e1 := HRP.out.1
    have e2 := HRP.out.2.1
    have e3 := HRP.out.2.2
    rw [List.append_nil] at e1 e2 e3
    rw [e3] at hy
    rw [e1]
    have Y7 := hide hy
    have X6 := hide (fun k hk => (O6.out.lt k hk).2)
    clear hy hb e1 e2 e3 O6
    have hxl : (Crc.recd P).length ≤ 1000 := by rw [HRL.out]; have := LP.out; omega
    generalize Crc.recd P = L at *
    generalize ((Crc.nxtN L : Nat) : Int) = nn at *
    obtain ⟨ax, cx, hx⟩ := O7.out.form
    subst hx
    generalize hLL : L.length = len at *
    have OX := hide (And.intro hLL O7.out)
    clear O7 hLL
    have hxl' : (len : Int) ≤ 1000 := by omega
    go_wp2_with fail
    go_loopw [14] (fun i wr => ∃ k : Nat, k ≤ len ∧ i = .int .i64 k ∧ (∃ l, Hid (l.length = len ∧ Ow wr w.heap.size (.slice ax len cx) l)) ∧ Hid (Below w.heap.size w wr) ∧ Hid (Ow wr w6.heap.size y P)) (fun i _ => len - (intOf i).toNat)
    case atStart => exact ⟨0, Nat.zero_le _, rfl, ⟨L, OX⟩, B7, Y7⟩
    case round =>
      obtain ⟨k, hk, rfl, ⟨l, OL⟩, BL, YL⟩ := hrel
      by_cases hlt : k < len
      · obtain ⟨g, rfl, P1, hcell, hfr, P2⟩ := OL.out.2.at (k := k) hlt
        have hcb := getD_lt OL.out.2.1 k
        generalize l.getD k 0 = c at *
        have X8 : bits .xor .u8 (c : Int) 255 = ((c ^^^ 255 : Nat) : Int) := u8_xor_nat c 255 hcb (by decide)
        have hc2 : c ^^^ 255 < 256 := Nat.xor_lt_two_pow (n := 8) hcb (by decide)
        have P3 := P2.out (c ^^^ 255) hc2
        have NX : ∃ l, Hid (l.length = len ∧ Ow (wr.setCell ⟨g, k, none⟩ (.int .u8 ((c ^^^ 255 : Nat) : Int))) w.heap.size (.slice (some ⟨g, 0, none⟩) len cx) l) := ⟨l.set k (c ^^^ 255), hide ⟨by rw [List.length_set]; exact OL.out.1, P3.1⟩⟩
        have NB := hide (BL.out.setCell (p := ⟨g, k, none⟩) P1.out (.int .u8 ((c ^^^ 255 : Nat) : Int)))
        have NY := hide (YL.out.other P3.2 (by
          right; intro e
          have h1 := (YL.out.lt g e).1
          have h2 := X6.out g rfl
          omega))
        generalize c ^^^ 255 = d at *
        clear P2 P3 hcb hc2
        go_wp2_with fail
        go_roundw
        case rel => exact ⟨k + 1, hlt, by go_num, NX, NB, NY⟩
        case measure => simp [intOf]; omega
      · go_wp2_with fail
        refine (KN _).out.mono ?_
        rintro e w8 ⟨rfl, hb⟩
        have S8 := hide (same_yes _ _ P w8 (YL.out.rd.keep hb) (HP.out.keep (BL.out.trans (hb.mono BL.out.size))))
        have B8 := hide (BL.out.trans (hb.mono BL.out.size))
        clear hb
        go_wp2_with fail
        refine S8.out.mono ?_
        rintro e w9 ⟨rfl, rfl⟩
        go_wp2_with fail
        go_ret
        exact ⟨rfl, B8.out⟩
  · go_enter Try.func11, Try.ntmps11
    go_wp2_with (at_make; refine wpList_make_full _ rfl (.tmp 23) (.tmp 23) 22 rfl w.heap.size 5 i0 (.int .u8 0) 1 Try.underlying22 HI.out HZ0.out HZ1.out .i64 .i64 _ _ N rfl rfl HN.out.symm HN.out.symm (by rw [HZ2.out]; have := HN.out; omega) (by have := HN.out; unfold maxLen; omega) (Nat.le_refl _) ?_; intro w1 ho1 hg1)
    have B1 := hide ((Below.refl w.heap.size w).grown hg1 (Nat.le_refl _) (fun k hk => by cases hk))
    refine (enc_any _ _ w1 (Ow.made ho1).rd).mono ?_
    clear ho1 hg1
    intro e w2 he
    obtain ⟨ab, cb, rfl, hb⟩ := he.no (allOk_one_no (by rw [List.length_replicate]; exact HC.out))
    have B2 := hide (B1.out.trans (hb.mono B1.out.size))
    clear he hb
    go_wp2_with (at_make; refine wpList_make_full _ rfl (.const (.int .i64 1048577)) (.const (.int .i64 1048577)) 22 rfl w.heap.size 5 i0 (.int .u8 0) 1 Try.underlying22 HI.out HZ0.out HZ1.out .i64 .i64 _ _ M rfl rfl HM.out.symm HM.out.symm (by rw [HZ2.out]; have := HM.out; omega) (by have := HM.out; unfold maxLen; omega) B2.out.size ?_; intro w3 ho3 hg3)
    have B3 := hide (B2.out.grown hg3 B2.out.size (fun k hk => by cases hk))
    have O3 := hide (Ow.made ho3).rd
    clear ho3 hg3
    have RP3 := hide (rdp_two (HP.out.keep B3.out) O3.out)
    have B4 := hide (B3.out.trans ((one_blk w3 (.cells #[.slice a1 n cap1, .slice (some ⟨w2.heap.size, 0, none⟩) M M] 22)).mono B3.out.size))
    refine (encall_any _ _ _ _ RP3.out).mono ?_
    intro e w5 he
    obtain ⟨ac, cc, rfl, hb⟩ := he.no (allOk_two_no (by rw [List.length_replicate]; have := HM.out; omega))
    have B5 := hide (B4.out.trans (hb.mono B4.out.size))
    clear he hb RP3 O3
    go_wp2_with fail
    refine (enc_any _ _ w5 (HP.out.keep B5.out)).mono ?_
    intro e w6 he
    obtain ⟨x, rfl, ho, hb⟩ := he.yes XE.out
    have B6 := hide (B5.out.trans (hb.mono B5.out.size))
    have O6 := hide (show Ow w6 w5.heap.size x (Crc.recd P) by simpa [Crc.recs] using ho)
    clear he ho hb
    go_wp2_with fail
    refine (next_any _ _ w6 O6.out.rd (by rw [HRL.out]; have := LP.out; omega)).mono ?_
    rintro e w7 ⟨y, rfl, hy, hb⟩
    have B7 := hide (B6.out.trans (hb.mono B6.out.size))
    have O7 := hide ((O6.out.keep hb).low B5.out.size)
    have e1 := HRP.out.1
    have e2 := HRP.out.2.1
    have e3 := HRP.out.2.2
    rw [List.append_nil] at e1 e2 e3
    rw [e3] at hy
    rw [e1]
    have Y7 := hide hy
    have X6 := hide (fun k hk => (O6.out.lt k hk).2)
    clear hy hb e1 e2 e3 O6
    have hxl : (Crc.recd P).length ≤ 1000 := by rw [HRL.out]; have := LP.out; omega
    generalize Crc.recd P = L at *
    generalize ((Crc.nxtN L : Nat) : Int) = nn at *
    obtain ⟨ax, cx, hx⟩ := O7.out.form
    subst hx
    generalize hLL : L.length = len at *
    have OX := hide (And.intro hLL O7.out)
    clear O7 hLL
    have hxl' : (len : Int) ≤ 1000 := by omega
    go_wp2_with fail
    go_loopw [14] (fun i wr => ∃ k : Nat, k ≤ len ∧ i = .int .i64 k ∧ (∃ l, Hid (l.length = len ∧ Ow wr w.heap.size (.slice ax len cx) l)) ∧ Hid (Below w.heap.size w wr) ∧ Hid (Ow wr w6.heap.size y P)) (fun i _ => len - (intOf i).toNat)
    case atStart => exact ⟨0, Nat.zero_le _, rfl, ⟨L, OX⟩, B7, Y7⟩
    case round =>
      obtain ⟨k, hk, rfl, ⟨l, OL⟩, BL, YL⟩ := hrel
      by_cases hlt : k < len
      · obtain ⟨g, rfl, P1, hcell, hfr, P2⟩ := OL.out.2.at (k := k) hlt
        have hcb := getD_lt OL.out.2.1 k
        generalize l.getD k 0 = c at *
        have X8 : bits .xor .u8 (c : Int) 255 = ((c ^^^ 255 : Nat) : Int) := u8_xor_nat c 255 hcb (by decide)
        have hc2 : c ^^^ 255 < 256 := Nat.xor_lt_two_pow (n := 8) hcb (by decide)
        have P3 := P2.out (c ^^^ 255) hc2
        have NX : ∃ l, Hid (l.length = len ∧ Ow (wr.setCell ⟨g, k, none⟩ (.int .u8 ((c ^^^ 255 : Nat) : Int))) w.heap.size (.slice (some ⟨g, 0, none⟩) len cx) l) := ⟨l.set k (c ^^^ 255), hide ⟨by rw [List.length_set]; exact OL.out.1, P3.1⟩⟩
        have NB := hide (BL.out.setCell (p := ⟨g, k, none⟩) P1.out (.int .u8 ((c ^^^ 255 : Nat) : Int)))
        have NY := hide (YL.out.other P3.2 (by
          right; intro e
          have h1 := (YL.out.lt g e).1
          have h2 := X6.out g rfl
          omega))
        generalize c ^^^ 255 = d at *
        clear P2 P3 hcb hc2
        go_wp2_with fail
        go_roundw
        case rel => exact ⟨k + 1, hlt, by go_num, NX, NB, NY⟩
        case measure => simp [intOf]; omega
      · go_wp2_with fail
        refine (KN _).out.mono ?_
        rintro e w8 ⟨rfl, hb⟩
        have S8 := hide (same_yes _ _ P w8 (YL.out.rd.keep hb) (HP.out.keep (BL.out.trans (hb.mono BL.out.size))))
        have B8 := hide (BL.out.trans (hb.mono BL.out.size))
        clear hb
        go_wp2_with fail
        refine S8.out.mono ?_
        rintro e w9 ⟨rfl, rfl⟩
        go_wp2_with fail
        go_ret
        exact ⟨rfl, B8.out⟩
end Go.Proofs.Ytgjdaipofekjfaa
