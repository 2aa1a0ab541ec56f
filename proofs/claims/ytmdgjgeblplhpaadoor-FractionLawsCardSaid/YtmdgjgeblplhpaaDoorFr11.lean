/-
  Contract of fraction's method Of at this translation, where the arguments are accepted. Conditions: the arguments fit their kinds.
-/
import Derived.Test.YtmdgjgeblplhpaaDoorFr10
namespace Go.Proofs.YtmdgjgeblplhpaaDoor
open Go.RowKit
set_option linter.unusedVariables false

/-- The numbers of a walk through Of, one after the other. -/
structure OfW (n d x m q r0 W0 P p1 Q R S : Int) : Prop where
  tq : x.tdiv d = q
  tr : x.tmod d = r0
  qb1 : -1000000000000000 ≤ q
  qb2 : q ≤ 1000000000000000
  wp : wrap64 (r0 * n) = P
  tp : P.tdiv d = p1
  pb1 : -1000000000000000000 ≤ p1
  pb2 : p1 ≤ 1000000000000000000
  wb1 : -1000000000000000 ≤ W0
  wb2 : W0 ≤ 1000000000000000
  wq : Q = W0 + p1
  tR : P.tmod d = R
  Rb1 : -d < R
  Rb2 : R < d
  hS : stV Q R d m = S
  sb1 : -1 ≤ S
  sb2 : S ≤ 1
  Qb1 : -2000000000000000000 ≤ Q
  Qb2 : Q ≤ 2000000000000000000
  eQ : Q = qT n d x
  eR : R = rT n d x
  eW : W0 = q * n

theorem ofw (n d x m : Int) (h : ckE n d = 0) (hx : okA x) (hw : okA (x.tdiv d * n)) : OfW n d x m (x.tdiv d) (x.tmod d) (x.tdiv d * n) (x.tmod d * n) ((x.tmod d * n).tdiv d) (qT n d x) (rT n d x) (ofS n d x m) := by
  obtain ⟨b1, b2, b3, b4, _⟩ := ck_ok h
  have hd : 0 < d := by omega
  have e := of_parts x n d hd
  have q := td_bd x d hd
  have m1 := Int.tmod_lt_of_pos x hd
  have m2 := Int.lt_tmod_of_pos x hd
  have mb := mul_bd (show -1000000000 ≤ x.tmod d by omega) (show x.tmod d ≤ 1000000000 by omega) b3 b4
  have p := td_bd (x.tmod d * n) d hd
  have R1 := rT_bd n d x hd
  have s := st_sgn (qT n d x) (rT n d x) d m hd
  unfold okA at hx hw
  have eq : qT n d x = x.tdiv d * n + (x.tmod d * n).tdiv d := e.1
  have er : rT n d x = (x.tmod d * n).tmod d := e.2
  have sb : -1 ≤ ofS n d x m ∧ ofS n d x m ≤ 1 := by
    unfold ofS
    rcases Int.le_total 0 (rT n d x) with c | c
    · have := s.1 c; omega
    · have := s.2 c; omega
  exact ⟨rfl, rfl, by omega, by omega, wrap_small (by omega) (by omega), rfl, by omega, by omega, hw.1, hw.2, eq, er.symm, R1.1, R1.2, rfl, sb.1, sb.2, by omega, by omega, rfl, rfl, rfl⟩

theorem mdc (n d x : Int) (h : ckE n d = 0) (hx : okA x) (w : World) : Calls Tryd.prog 40 #[.int .i64 (x.tdiv d), .int .i64 n, .int .i64 1, .int .i64 3] w fun e w' =>
    e = .returned (.tuple #[.int .i64 (if okA (x.tdiv d * n) then x.tdiv d * n else 0), .int .i64 (if okA (x.tdiv d * n) then 0 else 12)]) ∧ Below w.heap.size w w' := by
  obtain ⟨b1, b2, b3, b4, _⟩ := ck_ok h
  have q := td_bd x d (by omega)
  have hq : okA (x.tdiv d) := by unfold okA at *; omega
  have hn : okA n := by unfold okA; omega
  refine (muldiv_any _ _ 1 3 w (divfor_1 _ _)).mono ?_
  rintro e w' ⟨rfl, hb⟩
  refine ⟨ret_ii ?_ (md_E hq hn), hb⟩
  unfold mdV
  rw [md_E hq hn, md_prod]
  by_cases c : okA (x.tdiv d * n) <;> simp [c]

set_option maxHeartbeats 2000000 in
theorem of_whole (n d x m : Int) (w : World) (hn : I64 n) (hd : I64 d) (h : ckE n d = 0) (m1 : 0 ≤ m) (m2 : m ≤ 3) (hx : okA x) (hw : ¬ okA (x.tdiv d * n)) :
    Calls Tryd.prog 24 #[.agg #[.int .i64 n, .int .i64 d], .int .i64 x, .int .i64 m] w (OfPost n d x m w) := by
  have C := fun w => hide (check_any n d w hn.1 hn.2 hd.1 hd.2)
  obtain ⟨b1, b2, b3, b4, _⟩ := ck_ok h
  have V := fun w => hide (valid_any x w)
  rw [okB_yes hx] at V
  rw [h] at C
  have d0 : 0 < d := by omega
  have de : (d == 0) = false := by simp; omega
  have F : ∀ w', Hid (Below w.heap.size w w' → OfPost n d x m w (.returned (.tuple #[.int .i64 0, .agg #[.int .i64 0, .int .i64 0], .int .i64 12])) w') := fun w' => hide (fun hb => ofpost_no (by
    have := of_over (m := m) d0 hw
    have ha : amA (qT n d x + ofS n d x m) = false := by
      cases hq : amA (qT n d x + ofS n d x m)
      · rfl
      · exact absurd (am_ok.1 hq) this
    simp [ofE, h, ha]; omega) (by decide) hb)
  have MD := fun w => hide (mdc n d x h hx w)
  simp only [hw, if_false] at MD
  have qb := td_bd x d d0
  obtain ⟨q, hq⟩ : ∃ q, q = x.tdiv d := ⟨_, rfl⟩
  rw [← hq] at MD qb
  have tq : x.tdiv d = q := hq.symm
  have q1 : -1000000000000000 ≤ q := by unfold okA at hx; omega
  have q2 : q ≤ 1000000000000000 := by unfold okA at hx; omega
  clear h hn hd hx hw hq qb b1 b2 b3 b4
  generalize OfPost n d x m w = RR at *
  go_enter Tryd.func24, Tryd.ntmps24
  go_wp2_with fail
  refine (C _).out.mono ?_
  rintro e w1 ⟨rfl, hb⟩
  have c0 := (hb.cell (p := ⟨w.heap.size, 0, none⟩) (by simp; omega)).trans (show _ = some (Value.int .i64 n) by simp [go_sem])
  have c1 := (hb.cell (p := ⟨w.heap.size, 1, none⟩) (by simp; omega)).trans (show _ = some (Value.int .i64 d) by simp [go_sem])
  have c4 := (hb.cell (p := ⟨w.heap.size + 1, 0, none⟩) (by simp)).trans (show _ = some (Value.int .i64 0) by simp [go_sem])
  have c5 := (hb.cell (p := ⟨w.heap.size + 1, 1, none⟩) (by simp)).trans (show _ = some (Value.int .i64 0) by simp [go_sem])
  have z0 := (hb.frozen (p := ⟨w.heap.size + 1, 0, none⟩) (by simp)).trans (show _ = false by simp [go_sem])
  have z2 := (hb.frozen (p := ⟨w.heap.size + 1, 1, none⟩) (by simp)).trans (show _ = false by simp [go_sem])
  have sz1 : w.heap.size + 2 ≤ w1.heap.size := by have := hb.size; simp at this; omega
  have k0 : ∀ y : Sub w1, y.val.cell? ⟨w.heap.size, 0, none⟩ = some (Value.int .i64 n) := fun y => (y.below.cell (p := ⟨w.heap.size, 0, none⟩) (by simp; omega)).trans c0
  have k1 : ∀ y : Sub w1, y.val.cell? ⟨w.heap.size, 1, none⟩ = some (Value.int .i64 d) := fun y => (y.below.cell (p := ⟨w.heap.size, 1, none⟩) (by simp; omega)).trans c1
  have HB1 := hide (show Below w.heap.size w w1 from (((Below.refl w.heap.size w).alloc (Nat.le_refl _) _).alloc (by simp) _).trans (hb.mono (by simp; omega)))
  clear hb
  go_wp2_with fail
  refine (V _).out.mono ?_
  rintro e w2 ⟨rfl, rfl⟩
  go_wp2_with fail
  refine wp_region_sub (w0 := w1) (by kernel_rfl) (by kernel_rfl) (Below.refl _ _).drew ?_
  repeat (first | go_big_quiet_step ((go_at_call 40; exact sub_of _ (MD _).out)) | quiet_step ((go_at_call 40; exact sub_of _ (MD _).out)))
  refine wpQuiet_nil ?_
  rintro _ ⟨y, rfl⟩
  have c0 := (y.below.cell (p := ⟨w.heap.size, 0, none⟩) (by simp; omega)).trans c0
  have c1 := (y.below.cell (p := ⟨w.heap.size, 1, none⟩) (by simp; omega)).trans c1
  have c4 := (y.below.cell (p := ⟨w.heap.size + 1, 0, none⟩) (by simp; omega)).trans c4
  have c5 := (y.below.cell (p := ⟨w.heap.size + 1, 1, none⟩) (by simp; omega)).trans c5
  have z0 := (y.below.frozen (p := ⟨w.heap.size + 1, 0, none⟩) (by simp; omega)).trans z0
  have z2 := (y.below.frozen (p := ⟨w.heap.size + 1, 1, none⟩) (by simp; omega)).trans z2
  have sz2 : w.heap.size + 2 ≤ y.val.heap.size := by have := y.below.size; omega
  have HB2 := hide (HB1.out.trans (y.below.mono HB1.out.size))
  clear k0 k1
  go_wp2_with fail
  exact bodyPost_ret (v := .tuple #[.int .i64 0, .agg #[.int .i64 0, .int .i64 0], .int .i64 12]) (by simp [results, Tryd.results24, go_sem, c4, c5]) rfl
    ((F _).out (by have := HB2.out; repeat' (first | exact this | refine Below.setCell ?_ ?_ _ | refine below_draw ?_ _ | refine Below.alloc ?_ ?_ _ | omega | (simp; done) | (simp; omega))))

set_option maxHeartbeats 2000000 in
theorem of_late (n d x m : Int) (w : World) (hn : I64 n) (hd : I64 d) (h : ckE n d = 0) (m1 : 0 ≤ m) (m2 : m ≤ 3) (hx : okA x) (hw : okA (x.tdiv d * n)) (ho : ¬ okA (qT n d x + ofS n d x m)) :
    Calls Tryd.prog 24 #[.agg #[.int .i64 n, .int .i64 d], .int .i64 x, .int .i64 m] w (OfPost n d x m w) := by
  have F : ∀ w', Hid (Below w.heap.size w w' → OfPost n d x m w (.returned (.tuple #[.int .i64 0, .agg #[.int .i64 0, .int .i64 0], .int .i64 12])) w') := fun w' => hide (fun hb => ofpost_no (by
    have ha : amA (qT n d x + ofS n d x m) = false := by
      cases hq : amA (qT n d x + ofS n d x m)
      · rfl
      · exact absurd (am_ok.1 hq) ho
    simp [ofE, h, ha]; omega) (by decide) hb)
  have V2 := fun w => hide (valid_any (qT n d x + ofS n d x m) w)
  rw [okB_no ho] at V2
  have C := fun w => hide (check_any n d w hn.1 hn.2 hd.1 hd.2)
  obtain ⟨b1, b2, b3, b4, _⟩ := ck_ok h
  have V := fun w => hide (valid_any x w)
  rw [okB_yes hx] at V
  rw [h] at C
  have d0 : 0 < d := by omega
  have de : (d == 0) = false := by simp; omega
  have MD := fun w => hide (mdc n d x h hx w)
  simp only [hw, if_true] at MD
  have O := ofw n d x m h hx hw
  obtain ⟨tq, tr, qb1, qb2, wp, tp, pb1, pb2, wb1, wb2, wq, tR, Rb1, Rb2, hS, sb1, sb2, Qb1, Qb2, eQ, eR, eW⟩ := O
  obtain ⟨W0, hW0⟩ : ∃ W0, W0 = x.tdiv d * n := ⟨_, rfl⟩
  rw [← hW0] at MD wb1 wb2 wq
  obtain ⟨P, hP⟩ : ∃ P, P = x.tmod d * n := ⟨_, rfl⟩
  rw [← hP] at wp tp tR pb1 pb2 wq
  have wp : wrap64 (x.tmod d * n) = P := by rw [← hP]; exact wp
  obtain ⟨p1, hp1⟩ : ∃ p1, p1 = P.tdiv d := ⟨_, rfl⟩
  rw [← hp1] at tp pb1 pb2 wq
  obtain ⟨q, hq⟩ : ∃ q, q = x.tdiv d := ⟨_, rfl⟩
  rw [← hq] at MD tq qb1 qb2
  have tq : x.tdiv d = q := hq.symm
  obtain ⟨r0, hr0⟩ : ∃ r0, r0 = x.tmod d := ⟨_, rfl⟩
  rw [← hr0] at wp
  have tr : x.tmod d = r0 := hr0.symm
  have tp : P.tdiv d = p1 := hp1.symm
  have ST := fun w => hide (step_any (qT n d x) (rT n d x) d m w (by omega) (by omega) m1 m2)
  rw [hS] at ST
  clear hW0 hP hp1 hq hr0 eQ eR eW hS
  clear h hn hd hx hw b3 b4 ho
  generalize OfPost n d x m w = RR at *
  generalize qT n d x = Q at *
  subst wq
  generalize rT n d x = R at *
  generalize ofS n d x m = S at *
  go_enter Tryd.func24, Tryd.ntmps24
  go_wp2_with fail
  refine (C _).out.mono ?_
  rintro e w1 ⟨rfl, hb⟩
  have c0 := (hb.cell (p := ⟨w.heap.size, 0, none⟩) (by simp; omega)).trans (show _ = some (Value.int .i64 n) by simp [go_sem])
  have c1 := (hb.cell (p := ⟨w.heap.size, 1, none⟩) (by simp; omega)).trans (show _ = some (Value.int .i64 d) by simp [go_sem])
  have c4 := (hb.cell (p := ⟨w.heap.size + 1, 0, none⟩) (by simp)).trans (show _ = some (Value.int .i64 0) by simp [go_sem])
  have c5 := (hb.cell (p := ⟨w.heap.size + 1, 1, none⟩) (by simp)).trans (show _ = some (Value.int .i64 0) by simp [go_sem])
  have z0 := (hb.frozen (p := ⟨w.heap.size + 1, 0, none⟩) (by simp)).trans (show _ = false by simp [go_sem])
  have z2 := (hb.frozen (p := ⟨w.heap.size + 1, 1, none⟩) (by simp)).trans (show _ = false by simp [go_sem])
  have sz1 : w.heap.size + 2 ≤ w1.heap.size := by have := hb.size; simp at this; omega
  have k0 : ∀ y : Sub w1, y.val.cell? ⟨w.heap.size, 0, none⟩ = some (Value.int .i64 n) := fun y => (y.below.cell (p := ⟨w.heap.size, 0, none⟩) (by simp; omega)).trans c0
  have k1 : ∀ y : Sub w1, y.val.cell? ⟨w.heap.size, 1, none⟩ = some (Value.int .i64 d) := fun y => (y.below.cell (p := ⟨w.heap.size, 1, none⟩) (by simp; omega)).trans c1
  have HB1 := hide (show Below w.heap.size w w1 from (((Below.refl w.heap.size w).alloc (Nat.le_refl _) _).alloc (by simp) _).trans (hb.mono (by simp; omega)))
  clear hb
  go_wp2_with fail
  refine (V _).out.mono ?_
  rintro e w2 ⟨rfl, rfl⟩
  go_wp2_with fail
  refine wp_region_sub (w0 := w1) (by kernel_rfl) (by kernel_rfl) (Below.refl _ _).drew ?_
  repeat (first | go_big_quiet_step ((go_at_call 40; exact sub_of _ (MD _).out)) | quiet_step ((go_at_call 40; exact sub_of _ (MD _).out)))
  refine wpQuiet_nil ?_
  rintro _ ⟨y, rfl⟩
  have c0 := (y.below.cell (p := ⟨w.heap.size, 0, none⟩) (by simp; omega)).trans c0
  have c1 := (y.below.cell (p := ⟨w.heap.size, 1, none⟩) (by simp; omega)).trans c1
  have c4 := (y.below.cell (p := ⟨w.heap.size + 1, 0, none⟩) (by simp; omega)).trans c4
  have c5 := (y.below.cell (p := ⟨w.heap.size + 1, 1, none⟩) (by simp; omega)).trans c5
  have z0 := (y.below.frozen (p := ⟨w.heap.size + 1, 0, none⟩) (by simp; omega)).trans z0
  have z2 := (y.below.frozen (p := ⟨w.heap.size + 1, 1, none⟩) (by simp; omega)).trans z2
  have sz2 : w.heap.size + 2 ≤ y.val.heap.size := by have := y.below.size; omega
  have HB2 := hide (HB1.out.trans (y.below.mono HB1.out.size))
  clear k0 k1
  go_wp2_with fail
  go_quiet (fail)
  go_wp2_with fail
  refine (ST _).out.mono ?_
  rintro e w3 ⟨rfl, hb⟩
  have c0 := (hb.cell (p := ⟨w.heap.size, 0, none⟩) (by simp; omega)).trans c0
  have c1 := (hb.cell (p := ⟨w.heap.size, 1, none⟩) (by simp; omega)).trans c1
  have c4 := (hb.cell (p := ⟨w.heap.size + 1, 0, none⟩) (by simp; omega)).trans c4
  have c5 := (hb.cell (p := ⟨w.heap.size + 1, 1, none⟩) (by simp; omega)).trans c5
  have z0 := (hb.frozen (p := ⟨w.heap.size + 1, 0, none⟩) (by simp; omega)).trans z0
  have z2 := (hb.frozen (p := ⟨w.heap.size + 1, 1, none⟩) (by simp; omega)).trans z2
  have sz3 : w.heap.size + 2 ≤ w3.heap.size := by have := hb.size; simp at this; omega
  have HB3 := hide ((below_draw HB2.out _).trans (hb.mono (by have := HB2.out.size; simp; omega)))
  clear hb
  go_wp2_with fail
  refine (V2 _).out.mono ?_
  rintro e w4 ⟨rfl, rfl⟩
  go_wp2_with fail
  exact bodyPost_ret (v := .tuple #[.int .i64 0, .agg #[.int .i64 0, .int .i64 0], .int .i64 12]) (by simp [results, Tryd.results24, go_sem, c4, c5]) rfl
    ((F _).out (by have := HB3.out; repeat' (first | exact this | refine Below.setCell ?_ ?_ _ | refine below_draw ?_ _ | refine Below.alloc ?_ ?_ _ | omega | (simp; done) | (simp; omega))))

set_option maxHeartbeats 2000000 in
theorem of_in (n d x m : Int) (w : World) (hn : I64 n) (hd : I64 d) (h : ckE n d = 0) (m1 : 0 ≤ m) (m2 : m ≤ 3) (hx : okA x) (hw : okA (x.tdiv d * n)) (ho : okA (qT n d x + ofS n d x m)) :
    Calls Tryd.prog 24 #[.agg #[.int .i64 n, .int .i64 d], .int .i64 x, .int .i64 m] w (OfPost n d x m w) := by
  have hE : ofE n d x m = 0 := by
    have h1 := am_ok.2 hx
    have h2 := am_ok.2 ho
    simp [ofE, h, h1, h2]; omega
  have F : ∀ w', Hid (Below w.heap.size w w' → OfPost n d x m w (.returned (.tuple #[.int .i64 (qT n d x + ofS n d x m), .agg #[.int .i64 (nwN (rT n d x - ofS n d x m * d) d), .int .i64 (nwD (rT n d x - ofS n d x m * d) d)], .int .i64 0])) w') := fun w' => hide (fun hb =>
    ⟨ret_of (by simp [ofV, hE]) (by simp [ofN, hE]) (by simp [ofD, hE]) hE.symm, hb⟩)
  have hU := (of_rem hE).1
  have V2 := fun w => hide (valid_any (qT n d x + ofS n d x m) w)
  rw [okB_yes ho] at V2
  have C := fun w => hide (check_any n d w hn.1 hn.2 hd.1 hd.2)
  obtain ⟨b1, b2, b3, b4, _⟩ := ck_ok h
  have V := fun w => hide (valid_any x w)
  rw [okB_yes hx] at V
  rw [h] at C
  have d0 : 0 < d := by omega
  have de : (d == 0) = false := by simp; omega
  have MD := fun w => hide (mdc n d x h hx w)
  simp only [hw, if_true] at MD
  have O := ofw n d x m h hx hw
  obtain ⟨tq, tr, qb1, qb2, wp, tp, pb1, pb2, wb1, wb2, wq, tR, Rb1, Rb2, hS, sb1, sb2, Qb1, Qb2, eQ, eR, eW⟩ := O
  obtain ⟨W0, hW0⟩ : ∃ W0, W0 = x.tdiv d * n := ⟨_, rfl⟩
  rw [← hW0] at MD wb1 wb2 wq
  obtain ⟨P, hP⟩ : ∃ P, P = x.tmod d * n := ⟨_, rfl⟩
  rw [← hP] at wp tp tR pb1 pb2 wq
  have wp : wrap64 (x.tmod d * n) = P := by rw [← hP]; exact wp
  obtain ⟨p1, hp1⟩ : ∃ p1, p1 = P.tdiv d := ⟨_, rfl⟩
  rw [← hp1] at tp pb1 pb2 wq
  obtain ⟨q, hq⟩ : ∃ q, q = x.tdiv d := ⟨_, rfl⟩
  rw [← hq] at MD tq qb1 qb2
  have tq : x.tdiv d = q := hq.symm
  obtain ⟨r0, hr0⟩ : ∃ r0, r0 = x.tmod d := ⟨_, rfl⟩
  rw [← hr0] at wp
  have tr : x.tmod d = r0 := hr0.symm
  have tp : P.tdiv d = p1 := hp1.symm
  have ST := fun w => hide (step_any (qT n d x) (rT n d x) d m w (by omega) (by omega) m1 m2)
  rw [hS] at ST
  clear hW0 hP hp1 hq hr0 eQ eR eW hS
  have ub := st_bd (q := qT n d x) (r := rT n d x) (d := d) (m := m) Rb1 Rb2
  have ub : -d ≤ rT n d x - ofS n d x m * d ∧ rT n d x - ofS n d x m * d ≤ d := ub
  have NW := fun w => hide (new_any (rT n d x - ofS n d x m * d) d w (by unfold I64; omega) hd)
  rw [hU] at NW
  have hsd : wrap64 (ofS n d x m * d) = ofS n d x m * d := wrap_small (by omega) (by omega)
  unfold okA at ho
  obtain ⟨o1, o2⟩ := ho
  clear h hn hd hx hw b3 b4 hE hU
  generalize OfPost n d x m w = RR at *
  generalize qT n d x = Q at *
  subst wq
  generalize rT n d x = R at *
  generalize ofS n d x m = S at *
  obtain ⟨T, hT⟩ : ∃ T, T = S * d := ⟨_, rfl⟩
  rw [← hT] at F NW hsd ub
  obtain ⟨u1, u2⟩ := ub
  have hsd : wrap64 (S * d) = T := by rw [← hT]; exact hsd
  clear hT
  generalize nwN (R - T) d = A at *
  generalize nwD (R - T) d = B at *
  go_enter Tryd.func24, Tryd.ntmps24
  go_wp2_with fail
  refine (C _).out.mono ?_
  rintro e w1 ⟨rfl, hb⟩
  have c0 := (hb.cell (p := ⟨w.heap.size, 0, none⟩) (by simp; omega)).trans (show _ = some (Value.int .i64 n) by simp [go_sem])
  have c1 := (hb.cell (p := ⟨w.heap.size, 1, none⟩) (by simp; omega)).trans (show _ = some (Value.int .i64 d) by simp [go_sem])
  have c4 := (hb.cell (p := ⟨w.heap.size + 1, 0, none⟩) (by simp)).trans (show _ = some (Value.int .i64 0) by simp [go_sem])
  have c5 := (hb.cell (p := ⟨w.heap.size + 1, 1, none⟩) (by simp)).trans (show _ = some (Value.int .i64 0) by simp [go_sem])
  have z0 := (hb.frozen (p := ⟨w.heap.size + 1, 0, none⟩) (by simp)).trans (show _ = false by simp [go_sem])
  have z2 := (hb.frozen (p := ⟨w.heap.size + 1, 1, none⟩) (by simp)).trans (show _ = false by simp [go_sem])
  have sz1 : w.heap.size + 2 ≤ w1.heap.size := by have := hb.size; simp at this; omega
  have k0 : ∀ y : Sub w1, y.val.cell? ⟨w.heap.size, 0, none⟩ = some (Value.int .i64 n) := fun y => (y.below.cell (p := ⟨w.heap.size, 0, none⟩) (by simp; omega)).trans c0
  have k1 : ∀ y : Sub w1, y.val.cell? ⟨w.heap.size, 1, none⟩ = some (Value.int .i64 d) := fun y => (y.below.cell (p := ⟨w.heap.size, 1, none⟩) (by simp; omega)).trans c1
  have HB1 := hide (show Below w.heap.size w w1 from (((Below.refl w.heap.size w).alloc (Nat.le_refl _) _).alloc (by simp) _).trans (hb.mono (by simp; omega)))
  clear hb
  go_wp2_with fail
  refine (V _).out.mono ?_
  rintro e w2 ⟨rfl, rfl⟩
  go_wp2_with fail
  refine wp_region_sub (w0 := w1) (by kernel_rfl) (by kernel_rfl) (Below.refl _ _).drew ?_
  repeat (first | go_big_quiet_step ((go_at_call 40; exact sub_of _ (MD _).out)) | quiet_step ((go_at_call 40; exact sub_of _ (MD _).out)))
  refine wpQuiet_nil ?_
  rintro _ ⟨y, rfl⟩
  have c0 := (y.below.cell (p := ⟨w.heap.size, 0, none⟩) (by simp; omega)).trans c0
  have c1 := (y.below.cell (p := ⟨w.heap.size, 1, none⟩) (by simp; omega)).trans c1
  have c4 := (y.below.cell (p := ⟨w.heap.size + 1, 0, none⟩) (by simp; omega)).trans c4
  have c5 := (y.below.cell (p := ⟨w.heap.size + 1, 1, none⟩) (by simp; omega)).trans c5
  have z0 := (y.below.frozen (p := ⟨w.heap.size + 1, 0, none⟩) (by simp; omega)).trans z0
  have z2 := (y.below.frozen (p := ⟨w.heap.size + 1, 1, none⟩) (by simp; omega)).trans z2
  have sz2 : w.heap.size + 2 ≤ y.val.heap.size := by have := y.below.size; omega
  have HB2 := hide (HB1.out.trans (y.below.mono HB1.out.size))
  clear k0 k1
  go_wp2_with fail
  go_quiet (fail)
  go_wp2_with fail
  refine (ST _).out.mono ?_
  rintro e w3 ⟨rfl, hb⟩
  have c0 := (hb.cell (p := ⟨w.heap.size, 0, none⟩) (by simp; omega)).trans c0
  have c1 := (hb.cell (p := ⟨w.heap.size, 1, none⟩) (by simp; omega)).trans c1
  have c4 := (hb.cell (p := ⟨w.heap.size + 1, 0, none⟩) (by simp; omega)).trans c4
  have c5 := (hb.cell (p := ⟨w.heap.size + 1, 1, none⟩) (by simp; omega)).trans c5
  have z0 := (hb.frozen (p := ⟨w.heap.size + 1, 0, none⟩) (by simp; omega)).trans z0
  have z2 := (hb.frozen (p := ⟨w.heap.size + 1, 1, none⟩) (by simp; omega)).trans z2
  have sz3 : w.heap.size + 2 ≤ w3.heap.size := by have := hb.size; simp at this; omega
  have HB3 := hide ((below_draw HB2.out _).trans (hb.mono (by have := HB2.out.size; simp; omega)))
  clear hb
  go_wp2_with fail
  refine (V2 _).out.mono ?_
  rintro e w4 ⟨rfl, rfl⟩
  go_wp2_with fail
  refine (NW _).out.mono ?_
  rintro e w5 ⟨rfl, hb⟩
  have c4 := (hb.cell (p := ⟨w.heap.size + 1, 0, none⟩) (by simp; omega)).trans c4
  have c5 := (hb.cell (p := ⟨w.heap.size + 1, 1, none⟩) (by simp; omega)).trans c5
  have z0 := (hb.frozen (p := ⟨w.heap.size + 1, 0, none⟩) (by simp; omega)).trans z0
  have z2 := (hb.frozen (p := ⟨w.heap.size + 1, 1, none⟩) (by simp; omega)).trans z2
  have sz5 : w.heap.size + 2 ≤ w5.heap.size := by have := hb.size; omega
  have HB5 := hide (HB3.out.trans (hb.mono HB3.out.size))
  clear hb
  go_wp2_with fail
  have k4 : ∀ o, (w5.alloc o).cell? ⟨w.heap.size + 1, 0, none⟩ = some (Value.int .i64 0) := fun o => (((Below.refl w5.heap.size w5).alloc (Nat.le_refl _) o).cell (p := ⟨w.heap.size + 1, 0, none⟩) (by simp; omega)).trans c4
  have k5 : ∀ o, (w5.alloc o).cell? ⟨w.heap.size + 1, 1, none⟩ = some (Value.int .i64 0) := fun o => (((Below.refl w5.heap.size w5).alloc (Nat.le_refl _) o).cell (p := ⟨w.heap.size + 1, 1, none⟩) (by simp; omega)).trans c5
  have y0 : ∀ o, (w5.alloc o).frozen? ⟨w.heap.size + 1, 0, none⟩ = false := fun o => (((Below.refl w5.heap.size w5).alloc (Nat.le_refl _) o).frozen (p := ⟨w.heap.size + 1, 0, none⟩) (by simp; omega)).trans z0
  have y2 : ∀ o, (w5.alloc o).frozen? ⟨w.heap.size + 1, 1, none⟩ = false := fun o => (((Below.refl w5.heap.size w5).alloc (Nat.le_refl _) o).frozen (p := ⟨w.heap.size + 1, 1, none⟩) (by simp; omega)).trans z2
  go_region
  go_wp2_with fail
  exact bodyPost_ret (v := .tuple #[.int .i64 (W0 + p1 + S), .agg #[.int .i64 A, .int .i64 B], .int .i64 0]) (by simp [results, Tryd.results24, go_sem, k4, k5]) rfl
    ((F _).out (by have := HB5.out; repeat' (first | exact this | refine Below.setCell ?_ ?_ _ | refine below_draw ?_ _ | refine Below.alloc ?_ ?_ _ | omega | (simp; done) | (simp; omega))))

/-- Of. -/
theorem of_any (n d x m : Int) (w : World) (hn : I64 n) (hd : I64 d) : Calls Tryd.prog 24 #[.agg #[.int .i64 n, .int .i64 d], .int .i64 x, .int .i64 m] w (OfPost n d x m w) := by
  by_cases h : ckE n d = 0
  · by_cases hm : m < 0 ∨ 3 < m
    · exact of_mode n d x m w hn hd h hm
    · by_cases hx : okA x
      · by_cases hw : okA (x.tdiv d * n)
        · by_cases ho : okA (qT n d x + ofS n d x m)
          · exact of_in n d x m w hn hd h (by omega) (by omega) hx hw ho
          · exact of_late n d x m w hn hd h (by omega) (by omega) hx hw ho
        · exact of_whole n d x m w hn hd h (by omega) (by omega) hx hw
      · exact of_amount n d x m w hn hd h (by omega) (by omega) hx
  · exact of_bad n d x m w hn hd h
end Go.Proofs.YtmdgjgeblplhpaaDoor
