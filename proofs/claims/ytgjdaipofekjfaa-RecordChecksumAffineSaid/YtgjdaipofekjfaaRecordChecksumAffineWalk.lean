/-
  The walk of RecordChecksumAffine.
-/
import Derived.Test.YtgjdaipofekjfaaRD
namespace Go.Proofs.Ytgjdaipofekjfaa
open Go.RowKit
set_option linter.unusedVariables false
set_option linter.unusedSimpArgs false
set_option linter.unnecessarySimpa false

theorem xor3_take {a b c : List Nat} {k n : Nat} (ha : a.length = n) (hb : b.length = n) (hc : c.length = n) (hk : k < n) :
    List.zipWith (· ^^^ ·) (List.zipWith (· ^^^ ·) (a.take (k + 1)) (b.take (k + 1))) (c.take (k + 1)) =
    List.zipWith (· ^^^ ·) (List.zipWith (· ^^^ ·) (a.take k) (b.take k)) (c.take k) ++ [a.getD k 0 ^^^ b.getD k 0 ^^^ c.getD k 0] := by
  rw [take_snocN (l := a) (by omega), take_snocN (l := b) (by omega), take_snocN (l := c) (by omega)]
  rw [List.zipWith_append (by simp; omega), List.zipWith_append (by simp; omega)]
  rfl

theorem zip3_len (A B C : List Nat) (k : Nat) : (List.zipWith (· ^^^ ·) (List.zipWith (· ^^^ ·) (A.take k) (B.take k)) (C.take k)).length ≤ k := by
  simp; omega
/-- Where byte k lies. -/
theorem rd_at {w : World} {a : Option Addr} {n cap : Nat} {l : List Nat} {k : Nat} (h : RdB w (.slice a n cap) l) (hl : l.length = n) (hk : k < n) :
    ∃ b o, a = some ⟨b, o, none⟩ ∧ Hid (b < w.heap.size ∧ w.cell? ⟨b, o + k, none⟩ = some (.int .u8 ((l.getD k 0 : Nat) : Int))) := by
  rcases h.2 with ⟨a0, hv, rfl⟩ | ⟨b, off, c, hv, g1, g2, g3, gc⟩
  · simp at hl; omega
  · simp at hv
    obtain ⟨rfl, e1, rfl⟩ := hv
    exact ⟨b, off, rfl, g3, gc k (by omega)⟩

set_option maxHeartbeats 4000000 in
set_option maxRecDepth 100000 in
theorem recordChecksumAffine_walk (a0 : Option Addr) (len0 cap0 : Nat) (z0 : List Int) (a1 : Option Addr) (len1 cap1 : Nat) (z1 : List Int) (a2 : Option Addr) (len2 cap2 : Nat) (z2 : List Int) (w : World) (w0 : IsRow .u8 w a0 len0 cap0 z0) (w1 : IsRow .u8 w a1 len1 cap1 z1) (w2 : IsRow .u8 w a2 len2 cap2 z2) :
    Calls Try.prog 4 #[.slice a0 len0 cap0, .slice a1 len1 cap1, .slice a2 len2 cap2] w fun e w' => e = .returned (.bool true) ∧ Below w.heap.size w w' := by
  obtain ⟨la, hla, hra⟩ := w0.rd
  obtain ⟨lb, hlb, hrb⟩ := w1.rd
  obtain ⟨lc, hlc, hrc⟩ := w2.rd
  obtain ⟨n, hn⟩ : ∃ n, n = min (min (min len0 len1) len2) 1000 := ⟨_, rfl⟩
  obtain ⟨ha, hna⟩ := hra.first hla (n := n) (by omega)
  obtain ⟨hb, hnb⟩ := hrb.first hlb (n := n) (by omega)
  obtain ⟨hc, hnc⟩ := hrc.first hlc (n := n) (by omega)
  have MM : ∀ W : World, (Builtin.min_ #[3, 3, 3, 3] 3 #[.int .i64 (len0 : Int), .int .i64 (len1 : Int), .int .i64 (len2 : Int), .int .i64 1000]).run Try.prog W = .ok (.int .i64 (n : Int)) W := by
    intro W
    simp [Builtin.min_, Builtin.min2]
    (repeat' split) <;> first | omega | (simp; omega)
  have LA := hide (show (la.take n).length = n by rw [List.length_take]; omega)
  have LB := hide (show (lb.take n).length = n by rw [List.length_take]; omega)
  have LC := hide (show (lc.take n).length = n by rw [List.length_take]; omega)
  have hn1000 : (n : Int) ≤ 1000 := by omega
  have hl0 : (n : Int) ≤ len0 := by omega
  have hl1 : (n : Int) ≤ len1 := by omega
  have hl2 : (n : Int) ≤ len2 := by omega
  have hna' : (n : Int) ≤ cap0 := by omega
  have hnb' : (n : Int) ≤ cap1 := by omega
  have hnc' : (n : Int) ≤ cap2 := by omega
  have HA := hide ha
  have HB := hide hb
  have HC := hide hc
  clear hra hrb hrc w0 w1 w2 hla hlb hlc hn hna hnb hnc ha hb hc
  generalize la.take n = A at *
  generalize lb.take n = B at *
  generalize lc.take n = C at *
  have KN := fun w => hide (known_any w)
  have CA := fun w' hb => hide (csum_any _ A w' (HA.out.keep hb))
  have CB := fun w' hb => hide (csum_any _ B w' (HB.out.keep hb))
  have CC := fun w' hb => hide (csum_any _ C w' (HC.out.keep hb))
  have CD := fun v w' h => hide (csum_any v (List.zipWith (· ^^^ ·) (List.zipWith (· ^^^ ·) A B) C) w' h)
  have XT := fun k hk => hide (xor3_take (k := k) LA.out LB.out LC.out hk)
  go_enter Try.func4, Try.ntmps4
  go_wp2_with fail
  go_loopw [8, 9] (fun v i wr => ∃ k : Nat, k ≤ n ∧ i = .int .i64 k ∧ Hid (Ow wr w.heap.size v (List.zipWith (· ^^^ ·) (List.zipWith (· ^^^ ·) (A.take k) (B.take k)) (C.take k))) ∧ Hid (Below w.heap.size w wr)) (fun _ i _ => n - (intOf i).toNat)
  case atStart => exact ⟨0, Nat.zero_le _, rfl, hide (Ow.nil _ _), hide (Below.refl _ _)⟩
  case round =>
    obtain ⟨k, hk, rfl, HO, BL⟩ := hrel
    by_cases hlt : k < n
    · have hlt1 : k + 1 ≤ n := hlt
      have XTk := XT k hlt
      have BA := getD_lt HA.out.1 k
      have BB := getD_lt HB.out.1 k
      have BC := getD_lt HC.out.1 k
      obtain ⟨b0, o0, rfl, P0⟩ := rd_at HA.out LA.out hlt
      obtain ⟨b1, o1, rfl, P1⟩ := rd_at HB.out LB.out hlt
      obtain ⟨b2, o2, rfl, P2⟩ := rd_at HC.out LC.out hlt
      generalize A.getD k 0 = x at *
      generalize B.getD k 0 = y at *
      generalize C.getD k 0 = z at *
      have lxy : x ^^^ y < 256 := Nat.xor_lt_two_pow (n := 8) BA BB
      have lxyz : x ^^^ y ^^^ z < 256 := Nat.xor_lt_two_pow (n := 8) lxy BC
      have X1 := hide (u8_xor_nat x y BA BB)
      have X2 := hide (u8_xor_nat (x ^^^ y) z lxy BC)
      have DLn := zip3_len A B C k
      have LT := hide (fun wx : World => lit_rd wx #[.int .u8 ((x ^^^ y ^^^ z : Nat) : Int)] (0, 0) [x ^^^ y ^^^ z] (by intro c hc; simp at hc; omega) rfl (by simp))
      generalize x ^^^ y ^^^ z = xyz at *
      generalize x ^^^ y = xy at *
      have DL := hide (show (List.zipWith (· ^^^ ·) (List.zipWith (· ^^^ ·) (A.take k) (B.take k)) (C.take k)).length + [xyz].length ≤ 140737488355328 by simp only [List.length_cons, List.length_nil]; omega)
      generalize hD : List.zipWith (· ^^^ ·) (List.zipWith (· ^^^ ·) (A.take k) (B.take k)) (C.take k) = D at *
      clear hD DLn hlt1 CA CB CC CD XT KN HA HB HC
      go_wp2_with fail
      refine wp_region_inv (I := fun f q wx => ∃ v8 v22 v23 v24 v25 v26 v27 v28 v29 v30 v31 v32 v33 v34 v35 v36 v37 v38 : Value, q = { tmps := #[Value.slice (some ⟨b0, o0, none⟩) len0 cap0, Value.slice (some ⟨b1, o1, none⟩) len1 cap1, Value.slice (some ⟨b2, o2, none⟩) len2 cap2, undef, undef, undef, Value.bool false, Value.int IntKind.i64 ↑n, v8, Value.int IntKind.i64 ↑k, Value.slice (some ⟨b0, o0, none⟩) len0 cap0, Value.int IntKind.i64 ↑len0, Value.slice (some ⟨b1, o1, none⟩) len1 cap1, Value.int IntKind.i64 ↑len1, Value.slice (some ⟨b2, o2, none⟩) len2 cap2, Value.int IntKind.i64 ↑len2, Value.int IntKind.i64 ↑n, Value.int IntKind.i64 ↑k, Value.int IntKind.i64 ↑n, Value.bool true, u20, u21, v22, v23, v24, v25, v26, v27, v28, v29, v30, v31, v32, v33, v34, v35, v36, v37, v38, undef, undef, undef, undef, undef, undef, undef, undef, undef, undef, undef, undef, undef, undef, undef, undef, undef, undef, undef, undef], defers := [] } ∧ Hid (Below w.heap.size w wx) ∧ Hid (f 16 = false → Ow wx w.heap.size u8 D) ∧ Hid (f 0 = true → v22 = u8) ∧ Hid (f 1 = true → v23 = Value.slice (some ⟨b0, o0, none⟩) len0 cap0) ∧ Hid (f 2 = true → v24 = Value.int IntKind.i64 ↑k) ∧ Hid (f 3 = true → v25 = .pointer (some ⟨b0, o0 + k, none⟩)) ∧ Hid (f 4 = true → v26 = .int .u8 (x : Int)) ∧ Hid (f 5 = true → v27 = Value.slice (some ⟨b1, o1, none⟩) len1 cap1) ∧ Hid (f 6 = true → v28 = Value.int IntKind.i64 ↑k) ∧ Hid (f 7 = true → v29 = .pointer (some ⟨b1, o1 + k, none⟩)) ∧ Hid (f 8 = true → v30 = .int .u8 (y : Int)) ∧ Hid (f 9 = true → v31 = .int .u8 (xy : Int)) ∧ Hid (f 10 = true → v32 = Value.slice (some ⟨b2, o2, none⟩) len2 cap2) ∧ Hid (f 11 = true → v33 = Value.int IntKind.i64 ↑k) ∧ Hid (f 12 = true → v34 = .pointer (some ⟨b2, o2 + k, none⟩)) ∧ Hid (f 13 = true → v35 = .int .u8 (z : Int)) ∧ Hid (f 14 = true → v36 = .int .u8 (xyz : Int)) ∧ Hid (f 15 = true → f 16 = false → RdB wx v37 [xyz]) ∧ Hid (f 16 = true → Ow wx w.heap.size v38 (D ++ [xyz])) ∧ Hid ((f 17 = true → v8 = v38 ∧ f 0 = true ∧ f 16 = true) ∧ (f 17 = false → v8 = u8))) (by kernel_rfl) (by kernel_rfl) ?_ ?_ ?_
      · exact ⟨_, _, _, _, _, _, _, _, _, _, _, _, _, _, _, _, _, _, rfl, hide (BL.out.drew), hide (fun _ => HO.out.keep (Below.refl _ _).drew), hide (fun h => Bool.noConfusion h), hide (fun h => Bool.noConfusion h), hide (fun h => Bool.noConfusion h), hide (fun h => Bool.noConfusion h), hide (fun h => Bool.noConfusion h), hide (fun h => Bool.noConfusion h), hide (fun h => Bool.noConfusion h), hide (fun h => Bool.noConfusion h), hide (fun h => Bool.noConfusion h), hide (fun h => Bool.noConfusion h), hide (fun h => Bool.noConfusion h), hide (fun h => Bool.noConfusion h), hide (fun h => Bool.noConfusion h), hide (fun h => Bool.noConfusion h), hide (fun h => Bool.noConfusion h), hide (fun h => Bool.noConfusion h), hide (fun h => Bool.noConfusion h), hide ⟨fun h => Bool.noConfusion h, fun _ => rfl⟩⟩
      · intro i hi f q wx hfi hB hI
        obtain ⟨v8, v22, v23, v24, v25, v26, v27, v28, v29, v30, v31, v32, v33, v34, v35, v36, v37, v38, rfl, HR, G0, F0, F1, F2, F3, F4, F5, F6, F7, F8, F9, F10, F11, F12, F13, F14, F15, F16, F17⟩ := hI
        have hin : i < 18 := hi
        have hic : i = 0 ∨ i = 1 ∨ i = 2 ∨ i = 3 ∨ i = 4 ∨ i = 5 ∨ i = 6 ∨ i = 7 ∨ i = 8 ∨ i = 9 ∨ i = 10 ∨ i = 11 ∨ i = 12 ∨ i = 13 ∨ i = 14 ∨ i = 15 ∨ i = 16 ∨ i = 17 := by omega
        clear hi hin
        rcases hic with rfl | rfl | rfl | rfl | rfl | rfl | rfl | rfl | rfl | rfl | rfl | rfl | rfl | rfl | rfl | rfl | rfl | rfl
        · skip
          have r17 : u8 = v8 := by
            cases hL : f 17 with
            | false => exact (F17.out.2 hL).symm
            | true => have h2 := (F17.out.1 hL).2.1; rw [hfi] at h2; cases h2
          subst r17
          refine wpOp_list' (o := _) rfl (fun K hK => ?_)
          go_wp2_with fail
          exact hK.out _ _ ⟨_, _, _, _, _, _, _, _, _, _, _, _, _, _, _, _, _, _, rfl, HR, G0, hide (fun _ => rfl), F1, F2, F3, F4, F5, F6, F7, F8, F9, F10, F11, F12, F13, F14, F15, F16, hide ⟨fun h => absurd ((F17.out.1 h).2.1) (by rw [hfi]; decide), fun _ => rfl⟩⟩
        · skip
          refine wpOp_list' (o := _) rfl (fun K hK => ?_)
          go_wp2_with fail
          exact hK.out _ _ ⟨_, _, _, _, _, _, _, _, _, _, _, _, _, _, _, _, _, _, rfl, HR, G0, F0, hide (fun _ => rfl), F2, F3, F4, F5, F6, F7, F8, F9, F10, F11, F12, F13, F14, F15, F16, F17⟩
        · skip
          refine wpOp_list' (o := _) rfl (fun K hK => ?_)
          go_wp2_with fail
          exact hK.out _ _ ⟨_, _, _, _, _, _, _, _, _, _, _, _, _, _, _, _, _, _, rfl, HR, G0, F0, F1, hide (fun _ => rfl), F3, F4, F5, F6, F7, F8, F9, F10, F11, F12, F13, F14, F15, F16, F17⟩
        · skip
          have d1 := F1.out (hB.dep 1 (by kernel_rfl))
          rw [d1]
          clear d1
          have d2 := F2.out (hB.dep 2 (by kernel_rfl))
          rw [d2]
          clear d2
          refine wpOp_list' (o := _) rfl (fun K hK => ?_)
          go_wp2_with fail
          exact hK.out _ _ ⟨_, _, _, _, _, _, _, _, _, _, _, _, _, _, _, _, _, _, rfl, HR, G0, F0, hide (fun _ => rfl), hide (fun _ => rfl), hide (fun _ => rfl), F4, F5, F6, F7, F8, F9, F10, F11, F12, F13, F14, F15, F16, F17⟩
        · skip
          have d3 := F3.out (hB.dep 3 (by kernel_rfl))
          rw [d3]
          clear d3
          refine wpOp_list' (o := _) rfl (fun K hK => ?_)
          have hcx := (HR.out.cell (p := ⟨b0, o0 + k, none⟩) P0.out.1).trans P0.out.2
          go_wp2_with fail
          exact hK.out _ _ ⟨_, _, _, _, _, _, _, _, _, _, _, _, _, _, _, _, _, _, rfl, HR, G0, F0, F1, F2, hide (fun _ => rfl), hide (fun _ => rfl), F5, F6, F7, F8, F9, F10, F11, F12, F13, F14, F15, F16, F17⟩
        · skip
          refine wpOp_list' (o := _) rfl (fun K hK => ?_)
          go_wp2_with fail
          exact hK.out _ _ ⟨_, _, _, _, _, _, _, _, _, _, _, _, _, _, _, _, _, _, rfl, HR, G0, F0, F1, F2, F3, F4, hide (fun _ => rfl), F6, F7, F8, F9, F10, F11, F12, F13, F14, F15, F16, F17⟩
        · skip
          refine wpOp_list' (o := _) rfl (fun K hK => ?_)
          go_wp2_with fail
          exact hK.out _ _ ⟨_, _, _, _, _, _, _, _, _, _, _, _, _, _, _, _, _, _, rfl, HR, G0, F0, F1, F2, F3, F4, F5, hide (fun _ => rfl), F7, F8, F9, F10, F11, F12, F13, F14, F15, F16, F17⟩
        · skip
          have d5 := F5.out (hB.dep 5 (by kernel_rfl))
          rw [d5]
          clear d5
          have d6 := F6.out (hB.dep 6 (by kernel_rfl))
          rw [d6]
          clear d6
          refine wpOp_list' (o := _) rfl (fun K hK => ?_)
          go_wp2_with fail
          exact hK.out _ _ ⟨_, _, _, _, _, _, _, _, _, _, _, _, _, _, _, _, _, _, rfl, HR, G0, F0, F1, F2, F3, F4, hide (fun _ => rfl), hide (fun _ => rfl), hide (fun _ => rfl), F8, F9, F10, F11, F12, F13, F14, F15, F16, F17⟩
        · skip
          have d7 := F7.out (hB.dep 7 (by kernel_rfl))
          rw [d7]
          clear d7
          refine wpOp_list' (o := _) rfl (fun K hK => ?_)
          have hcx := (HR.out.cell (p := ⟨b1, o1 + k, none⟩) P1.out.1).trans P1.out.2
          go_wp2_with fail
          exact hK.out _ _ ⟨_, _, _, _, _, _, _, _, _, _, _, _, _, _, _, _, _, _, rfl, HR, G0, F0, F1, F2, F3, F4, F5, F6, hide (fun _ => rfl), hide (fun _ => rfl), F9, F10, F11, F12, F13, F14, F15, F16, F17⟩
        · skip
          have d4 := F4.out (hB.dep 4 (by kernel_rfl))
          rw [d4]
          clear d4
          have d8 := F8.out (hB.dep 8 (by kernel_rfl))
          rw [d8]
          clear d8
          refine wpOp_list' (o := _) rfl (fun K hK => ?_)
          have e9 := X1.out
          go_wp2_with fail
          exact hK.out _ _ ⟨_, _, _, _, _, _, _, _, _, _, _, _, _, _, _, _, _, _, rfl, HR, G0, F0, F1, F2, F3, hide (fun _ => rfl), F5, F6, F7, hide (fun _ => rfl), hide (fun _ => rfl), F10, F11, F12, F13, F14, F15, F16, F17⟩
        · skip
          refine wpOp_list' (o := _) rfl (fun K hK => ?_)
          go_wp2_with fail
          exact hK.out _ _ ⟨_, _, _, _, _, _, _, _, _, _, _, _, _, _, _, _, _, _, rfl, HR, G0, F0, F1, F2, F3, F4, F5, F6, F7, F8, F9, hide (fun _ => rfl), F11, F12, F13, F14, F15, F16, F17⟩
        · skip
          refine wpOp_list' (o := _) rfl (fun K hK => ?_)
          go_wp2_with fail
          exact hK.out _ _ ⟨_, _, _, _, _, _, _, _, _, _, _, _, _, _, _, _, _, _, rfl, HR, G0, F0, F1, F2, F3, F4, F5, F6, F7, F8, F9, F10, hide (fun _ => rfl), F12, F13, F14, F15, F16, F17⟩
        · skip
          have d10 := F10.out (hB.dep 10 (by kernel_rfl))
          rw [d10]
          clear d10
          have d11 := F11.out (hB.dep 11 (by kernel_rfl))
          rw [d11]
          clear d11
          refine wpOp_list' (o := _) rfl (fun K hK => ?_)
          go_wp2_with fail
          exact hK.out _ _ ⟨_, _, _, _, _, _, _, _, _, _, _, _, _, _, _, _, _, _, rfl, HR, G0, F0, F1, F2, F3, F4, F5, F6, F7, F8, F9, hide (fun _ => rfl), hide (fun _ => rfl), hide (fun _ => rfl), F13, F14, F15, F16, F17⟩
        · skip
          have d12 := F12.out (hB.dep 12 (by kernel_rfl))
          rw [d12]
          clear d12
          refine wpOp_list' (o := _) rfl (fun K hK => ?_)
          have hcx := (HR.out.cell (p := ⟨b2, o2 + k, none⟩) P2.out.1).trans P2.out.2
          go_wp2_with fail
          exact hK.out _ _ ⟨_, _, _, _, _, _, _, _, _, _, _, _, _, _, _, _, _, _, rfl, HR, G0, F0, F1, F2, F3, F4, F5, F6, F7, F8, F9, F10, F11, hide (fun _ => rfl), hide (fun _ => rfl), F14, F15, F16, F17⟩
        · skip
          have d9 := F9.out (hB.dep 9 (by kernel_rfl))
          rw [d9]
          clear d9
          have d13 := F13.out (hB.dep 13 (by kernel_rfl))
          rw [d13]
          clear d13
          refine wpOp_list' (o := _) rfl (fun K hK => ?_)
          have e9 := X2.out
          go_wp2_with fail
          exact hK.out _ _ ⟨_, _, _, _, _, _, _, _, _, _, _, _, _, _, _, _, _, _, rfl, HR, G0, F0, F1, F2, F3, F4, F5, F6, F7, F8, hide (fun _ => rfl), F10, F11, F12, hide (fun _ => rfl), hide (fun _ => rfl), F15, F16, F17⟩
        · skip
          have d14 := F14.out (hB.dep 14 (by kernel_rfl))
          rw [d14]
          clear d14
          refine wpOp_list' (o := _) rfl (fun K hK => ?_)
          go_wp2_with fail
          have hbl := (one_blk wx (.cells #[.int .u8 (xyz : Int)] 5))
          have HR := hide (HR.out.trans (hbl.mono HR.out.size))
          exact hK.out _ _ ⟨_, _, _, _, _, _, _, _, _, _, _, _, _, _, _, _, _, _, rfl, HR, hide (fun h => (G0.out h).keep hbl), F0, F1, F2, F3, F4, F5, F6, F7, F8, F9, F10, F11, F12, F13, hide (fun _ => rfl), hide (fun _ => fun _ => LT.out wx), hide (fun h => (F16.out h).keep hbl), F17⟩
        · skip
          have d0 := F0.out (hB.dep 0 (by kernel_rfl))
          rw [d0]
          clear d0
          have d15 := F15.out (hB.dep 15 (by kernel_rfl))
          refine wpOp_list' (o := _) rfl (fun K hK => ?_)
          have d15 := d15 hfi
          go_wp2_with (refine wpList_ap (W := w) HR.out (G0.out hfi) d15 DL.out rfl (.tmp 22) (.tmp 37) rfl rfl rfl ?_; intro v38n wy HO38 HB38 HG38)
          have HR := hide (HB38.out)
          exact hK.out _ _ ⟨_, _, _, _, _, _, _, _, _, _, _, _, _, _, _, _, _, _, rfl, HR, hide (fun h => by simp [upd] at h), hide (fun _ => rfl), F1, F2, F3, F4, F5, F6, F7, F8, F9, F10, F11, F12, F13, F14, hide (fun _ h2 => by simp [upd] at h2), hide (fun _ => HO38.out), hide ⟨fun h => absurd ((F17.out.1 h).2.2) (by rw [hfi]; decide), F17.out.2⟩⟩
        · skip
          have d16 := F16.out (hB.dep 16 (by kernel_rfl))
          refine wpOp_list' (o := _) rfl (fun K hK => ?_)
          go_wp2_with fail
          exact hK.out _ _ ⟨_, _, _, _, _, _, _, _, _, _, _, _, _, _, _, _, _, _, rfl, HR, G0, F0, F1, F2, F3, F4, F5, F6, F7, F8, F9, F10, F11, F12, F13, F14, F15, F16, hide ⟨fun _ => ⟨rfl, hB.dep 0 (by kernel_rfl), hB.dep 16 (by kernel_rfl)⟩, fun h => by simp [upd] at h⟩⟩
      · intro f q wx hall hI
        obtain ⟨v8, v22, v23, v24, v25, v26, v27, v28, v29, v30, v31, v32, v33, v34, v35, v36, v37, v38, rfl, HR, G0, F0, F1, F2, F3, F4, F5, F6, F7, F8, F9, F10, F11, F12, F13, F14, F15, F16, F17⟩ := hI
        obtain ⟨h17, _⟩ := F17.out
        obtain ⟨e17, _⟩ := h17 (hall 17 (by decide))
        have O16 := hide (F16.out (hall 16 (by decide)))
        subst e17
        rw [← XTk.out] at O16
        clear F0 F1 F2 F3 F4 F5 F6 F7 F8 F9 F10 F11 F12 F13 F14 F15 F16 F17 G0 hall h17
        go_wp2_with fail
        go_roundw
        case rel => exact ⟨k + 1, hlt, by go_num, O16, HR⟩
        case measure => simp [intOf]; omega
    · obtain rfl : k = n := by omega
      have eD : List.zipWith (· ^^^ ·) (List.zipWith (· ^^^ ·) (A.take k) (B.take k)) (C.take k) = List.zipWith (· ^^^ ·) (List.zipWith (· ^^^ ·) A B) C := by
        rw [List.take_of_length_le (Nat.le_of_eq LA.out), List.take_of_length_le (Nat.le_of_eq LB.out), List.take_of_length_le (Nat.le_of_eq LC.out)]
      rw [eD] at HO
      have hO := HO.out.rd
      have CD' := fun x : Sub wr => hide (sub_of x (CD _ x.val (hO.keep x.below)).out)
      have CA' := fun x : Sub wr => hide (sub_of x (CA x.val (BL.out.trans (x.below.mono BL.out.size))).out)
      have CB' := fun x : Sub wr => hide (sub_of x (CB x.val (BL.out.trans (x.below.mono BL.out.size))).out)
      have CC' := fun x : Sub wr => hide (sub_of x (CC x.val (BL.out.trans (x.below.mono BL.out.size))).out)
      have KN' := fun x : Sub wr => hide (sub_of x (KN x.val).out)
      rw [Crc.crc_affine A B C (LA.out.trans LB.out.symm) (LB.out.trans LC.out.symm)] at CD'
      have l1 : Crc.crc A < 4294967296 := Crc.ext_lt (by decide) HA.out.1
      have l2 : Crc.crc B < 4294967296 := Crc.ext_lt (by decide) HB.out.1
      have l3 : Crc.crc C < 4294967296 := Crc.ext_lt (by decide) HC.out.1
      have X1 := u32_xor_nat (Crc.crc A) (Crc.crc B) l1 l2
      have X2 := u32_xor_nat (Crc.crc A ^^^ Crc.crc B) (Crc.crc C) (Nat.xor_lt_two_pow (n := 32) l1 l2) l3
      clear l1 l2 l3 eD hO CA CB CC CD KN HA HB HC XT LA LB LC HO hlt
      generalize Crc.crc A ^^^ Crc.crc B ^^^ Crc.crc C = XYZ at *
      generalize Crc.crc A ^^^ Crc.crc B = XY at *
      generalize Crc.crc A = X at *
      generalize Crc.crc B = Y at *
      generalize Crc.crc C = Z at *
      go_wp2_with fail
      refine wp_region_sub (w0 := wr) (by kernel_rfl) (by kernel_rfl) (Below.refl _ _).drew ?_
      repeat (first | go_big_quiet_step (first | (go_at_call 12; with_reducible exact (KN' _).out) | (go_at_call 13; with_reducible exact (CD' _).out) | (go_at_call 13; with_reducible exact (CA' _).out) | (go_at_call 13; with_reducible exact (CB' _).out) | (go_at_call 13; with_reducible exact (CC' _).out)) | quiet_step (first | (go_at_call 12; with_reducible exact (KN' _).out) | (go_at_call 13; with_reducible exact (CD' _).out) | (go_at_call 13; with_reducible exact (CA' _).out) | (go_at_call 13; with_reducible exact (CB' _).out) | (go_at_call 13; with_reducible exact (CC' _).out)))
      refine wpQuiet_nil ?_
      rintro _ ⟨x, rfl⟩
      go_wp2_with fail
      go_ret
      exact ⟨rfl, BL.out.trans (x.below.mono BL.out.size)⟩
end Go.Proofs.Ytgjdaipofekjfaa
