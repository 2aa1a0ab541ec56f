/-
  The walk of PartialAddUp.
-/
import Derived.Test.YtipgpmjhoaenlaaDoorP11
import Derived.Test.YtipgpmjhoaenlaaDoorP14
namespace Go.Proofs.YtipgpmjhoaenlaaDoor
open Go.RowKit
set_option linter.unusedVariables false
set_option linter.unusedSimpArgs false
set_option linter.unnecessarySimpa false

theorem wfi {a : Int} (h : (Lit.int .i64 a).wf = true) : -9223372036854775808 ≤ a ∧ a ≤ 9223372036854775807 := by
  simp [Lit.wf] at h; simp [IntKind.min, IntKind.signed, IntKind.bits] at h; omega
theorem ok_size {kind lo hi : Int} {s : ByteArray} (k0 : 0 ≤ kind) (k3 : kind ≤ 3) (hl : loK kind = lo) (hh : hiK kind = hi) (h0 : 0 ≤ hi) (h : okI kind s = true) : (s.size : Int) ≤ hi := by
  unfold okI at h
  have h := of_decide_eq_true h
  unfold ckR at h
  rw [if_neg (by omega), hl, hh] at h
  by_cases hp : (pre kind lo hi s).2 ≠ 0
  · rw [if_pos hp] at h; exact absurd h hp
  · exact (pre_ok h0 (Classical.byContradiction hp)).2.2.1
set_option maxHeartbeats 16000000 in
set_option maxRecDepth 20000 in
theorem partialAddUp_walk (t : Tr) (a1 : Int) (w : World) (h : t.Ok) (w1 : (Lit.int .i64 a1).wf = true) (hL : laidMetH Tryd.prog laid w) :
    Calls Tryd.prog 5 #[.agg #[.int .i64 t.k, .string t.d, .string t.r, .string t.a, .int .i64 t.q, .int .i64 t.m, .int .i64 t.td, .int .i64 t.sd, .int .i64 t.p, .bool t.pa, .int .i64 t.ml, .string t.r0, .string t.r1], .int .i64 a1] w fun e w' => e = .returned (.bool true) ∧ Below w.heap.size w w' := by
  have S := hide (shp_of hL)
  have LO := fun w => hide (lof_any t w)
  have SP := fun w S => hide (split_any t a1 w S h)
  have K := fun w S => hide (known_any w S)
  have HR := hide (one_alloc w (Obj.cells #[.int .i64 t.k, .string t.d, .string t.r, .string t.a, .int .i64 t.q, .int .i64 t.m, .int .i64 t.td, .int .i64 t.sd, .int .i64 t.p, .bool t.pa, .int .i64 t.ml, .string t.r0, .string t.r1] 24))
  have HB := hide (TB.new t w 24)
  by_cases hE : spE t a1 = 0
  · have A0 := ad_of hE
    obtain ⟨hT, _, _⟩ := spE_zero hE
    obtain ⟨_, o1, o2, _, o3, _, o4, o5⟩ := tE_zero hT
    have z1 : t.d.size ≤ 200 := by have := ok_size (by decide) (by decide) lo1 hi1 (by decide) o1; omega
    have z2 : t.r0.size ≤ 200 := by have := ok_size (by decide) (by decide) lo2 hi2 (by decide) o4; omega
    obtain ⟨pl, pm⟩ := pr_low A0
    have ph := pr_high A0
    obtain ⟨ea, eb, al, aq, am, bq, bm, ad, bd, a0, b0, n1, nq, q2, m2, v0, vm⟩ := A0
    have oka : (spA t a1).Ok := by
      by_cases c : True
      · have e : spA t a1 = _ := if_pos hE
        rw [e]
        exact ⟨h.k, by simp only; omega, by simp only; omega, h.td, h.sd, h.p, by simp only; omega, h.d, h.r, h.a, h.r0, h.r1⟩
      · exact absurd trivial c
    have okb : (spB t a1).Ok := by
      by_cases hl : t.q - a1 < t.ml
      · have e : spB t a1 = _ := (if_pos hE).trans (if_pos hl)
        rw [e]
        exact ⟨h.k, by simp only; omega, by simp only; omega, h.td, h.sd, h.p, by simp only; omega, h.d, h.r, h.a, h.r0, h.r1⟩
      · have e : spB t a1 = _ := (if_pos hE).trans (if_neg hl)
        rw [e]
        exact ⟨h.k, by simp only; omega, by simp only; omega, h.td, h.sd, h.p, h.ml, h.d, h.r, h.a, h.r0, h.r1⟩
    have CKA := fun w S => hide (tcheck_any (spA t a1) w S oka)
    have CKB := fun w S => hide (tcheck_any (spB t a1) w S okb)
    have ALA := fun w S => hide (al_any (spA t a1) w S oka)
    have IA := fun w => hide (tid_any (spA t a1) w (by rw [ad]; exact z1) (by rw [a0]; exact z2))
    have IB := fun w => hide (tid_any (spB t a1) w (by rw [bd]; exact z1) (by rw [b0]; exact z2))
    have IT := fun w => hide (tid_any t w z1 z2)
    have ML := fun w => hide (md_any (spA t a1).m t.q (spA t a1).q 0 w (by rw [aq]; omega))
    have MH := fun w => hide (md_any (spB t a1).m t.q (spB t a1).q 1 w (by rw [bq]; omega))
    rw [ea] at CKA
    rw [eb] at CKB
    rw [al] at ALA
    have ia : idS (spA t a1).d (spA t a1).r0 = idS t.d t.r0 := by rw [ad, a0]
    have ib : idS (spB t a1).d (spB t a1).r0 = idS t.d t.r0 := by rw [bd, b0]
    rw [ia] at IA
    rw [ib] at IB
    clear ia ib
    have hq : (spA t a1).q + (spB t a1).q = t.q := by rw [aq, bq]; omega
    have hm : (spA t a1).m + (spB t a1).m = t.m := by rw [am, bm]; omega
    have em : mdE (spA t a1).m t.q (spA t a1).q 0 = 0 := by rw [am, aq]; exact pl
    have ev : mdV (spA t a1).m t.q (spA t a1).q 0 ≤ t.m := by rw [am, aq]; exact pm
    have eh : mdE (spB t a1).m t.q (spB t a1).q 1 = 0 → t.m ≤ mdV (spB t a1).m t.q (spB t a1).q 1 := by rw [bm, bq]; exact ph
    have wq : IntKind.i64.wrap t.q = t.q := by rw [IntKind.wrap_i64]; omega
    have wm : IntKind.i64.wrap t.m = t.m := by rw [IntKind.wrap_i64]; omega
    have wq2 : wrap64 t.q = t.q := by unfold wrap64; omega
    have wm2 : wrap64 t.m = t.m := by unfold wrap64; omega
    rw [em] at ML
    rw [hE] at SP
    have EV := hide ev
    have EH := hide eh
    have HQ := hide (And.intro hq (And.intro hm (And.intro wq (And.intro wm (And.intro wq2 wm2)))))
    clear h w1 hL hE hT o1 o2 o3 o4 o5 z1 z2 pl pm ph ea eb al aq am bq bm ad bd a0 b0 n1 nq q2 m2 v0 vm oka okb hq hm em ev eh wq wm wq2 wm2
    generalize idS t.d t.r0 = IS at *
    generalize spA t a1 = A at *
    generalize spB t a1 = B at *
    generalize mdV A.m t.q A.q 0 = LV at *
    generalize mdV B.m t.q B.q 1 = HV at *
    generalize mdE B.m t.q B.q 1 = HE at *
    go_enter Tryd.func5, Tryd.ntmps5
    obtain ⟨_, c0, c1, c2, c3, c4, c5, c6, c7, c8, c9, c10, c11, c12⟩ := HB.out
    go_wp2_with fail
    refine ((LO _).out).mono ?_
    rintro e x1 ⟨rfl, hb⟩
    clear c0 c1 c2 c3 c4 c5 c6 c7 c8 c9 c10 c11 c12
    have HB := hide (HB.out.keep hb)
    have HR := hide (HR.out.trans (hb.mono HR.out.size))
    clear hb
    have hb := one_alloc x1 (Obj.cells #[.int .i64 t.k, .string t.d, .string t.r, .string t.a, .int .i64 t.q, .int .i64 t.m, .int .i64 t.td, .int .i64 t.sd, .int .i64 t.p, .bool t.pa, .int .i64 t.ml, .string t.r0, .string t.r1] 25)
    have H5 := hide (TB.new t x1 25)
    have HR := hide (HR.out.trans (hb.mono HR.out.size))
    clear hb
    go_wp2_with fail
    refine ((SP _ (S.out.keep HR.out)).out).mono ?_
    rintro e x2 ⟨rfl, hb⟩
    have H5 := hide (H5.out.keep hb)
    have HR := hide (HR.out.trans (hb.mono HR.out.size))
    clear hb HB
    generalize x1.heap.size = p at *
    have hb := two_allocs x2 (Obj.cells #[.int .i64 A.k, .string A.d, .string A.r, .string A.a, .int .i64 A.q, .int .i64 A.m, .int .i64 A.td, .int .i64 A.sd, .int .i64 A.p, .bool A.pa, .int .i64 A.ml, .string A.r0, .string A.r1] 25) (Obj.cells #[.int .i64 B.k, .string B.d, .string B.r, .string B.a, .int .i64 B.q, .int .i64 B.m, .int .i64 B.td, .int .i64 B.sd, .int .i64 B.p, .bool B.pa, .int .i64 B.ml, .string B.r0, .string B.r1] 25)
    have H6 := hide ((TB.new A x2 25).keep (one_alloc _ (Obj.cells #[.int .i64 B.k, .string B.d, .string B.r, .string B.a, .int .i64 B.q, .int .i64 B.m, .int .i64 B.td, .int .i64 B.sd, .int .i64 B.p, .bool B.pa, .int .i64 B.ml, .string B.r0, .string B.r1] 25)))
    have H7 := hide (TB.new B (x2.alloc (Obj.cells #[.int .i64 A.k, .string A.d, .string A.r, .string A.a, .int .i64 A.q, .int .i64 A.m, .int .i64 A.td, .int .i64 A.sd, .int .i64 A.p, .bool A.pa, .int .i64 A.ml, .string A.r0, .string A.r1] 25)) 25)
    have s9 : (x2.alloc (Obj.cells #[.int .i64 A.k, .string A.d, .string A.r, .string A.a, .int .i64 A.q, .int .i64 A.m, .int .i64 A.td, .int .i64 A.sd, .int .i64 A.p, .bool A.pa, .int .i64 A.ml, .string A.r0, .string A.r1] 25)).heap.size = x2.heap.size + 1 := by simp
    rw [s9] at H7
    clear s9
    have H5 := hide (H5.out.keep hb)
    have HR := hide (HR.out.trans (hb.mono HR.out.size))
    clear hb
    go_wp2_with fail
    generalize ((x2.alloc (Obj.cells #[.int .i64 A.k, .string A.d, .string A.r, .string A.a, .int .i64 A.q, .int .i64 A.m, .int .i64 A.td, .int .i64 A.sd, .int .i64 A.p, .bool A.pa, .int .i64 A.ml, .string A.r0, .string A.r1] 25)).alloc (Obj.cells #[.int .i64 B.k, .string B.d, .string B.r, .string B.a, .int .i64 B.q, .int .i64 B.m, .int .i64 B.td, .int .i64 B.sd, .int .i64 B.p, .bool B.pa, .int .i64 B.ml, .string B.r0, .string B.r1] 25)) = X at *
    generalize x2.heap.size = q at *
    have KS : ∀ y : Sub X, Hid (Shp y.val) := fun y => hide (S.out.keep (HR.out.trans (y.below.mono HR.out.size)))
    obtain ⟨g1, g2, g3, g4, g5, g6⟩ := HQ.out
    have k0 : ∀ z : Sub X, z.val.cell? ⟨p, 0, none⟩ = some (.int .i64 t.k) := fun z => (H5.out.keep z.below).c0
    have k1 : ∀ z : Sub X, z.val.cell? ⟨p, 1, none⟩ = some (.string t.d) := fun z => (H5.out.keep z.below).c1
    have k2 : ∀ z : Sub X, z.val.cell? ⟨p, 2, none⟩ = some (.string t.r) := fun z => (H5.out.keep z.below).c2
    have k3 : ∀ z : Sub X, z.val.cell? ⟨p, 3, none⟩ = some (.string t.a) := fun z => (H5.out.keep z.below).c3
    have k4 : ∀ z : Sub X, z.val.cell? ⟨p, 4, none⟩ = some (.int .i64 t.q) := fun z => (H5.out.keep z.below).c4
    have k5 : ∀ z : Sub X, z.val.cell? ⟨p, 5, none⟩ = some (.int .i64 t.m) := fun z => (H5.out.keep z.below).c5
    have k6 : ∀ z : Sub X, z.val.cell? ⟨p, 6, none⟩ = some (.int .i64 t.td) := fun z => (H5.out.keep z.below).c6
    have k7 : ∀ z : Sub X, z.val.cell? ⟨p, 7, none⟩ = some (.int .i64 t.sd) := fun z => (H5.out.keep z.below).c7
    have k8 : ∀ z : Sub X, z.val.cell? ⟨p, 8, none⟩ = some (.int .i64 t.p) := fun z => (H5.out.keep z.below).c8
    have k9 : ∀ z : Sub X, z.val.cell? ⟨p, 9, none⟩ = some (.bool t.pa) := fun z => (H5.out.keep z.below).c9
    have k10 : ∀ z : Sub X, z.val.cell? ⟨p, 10, none⟩ = some (.int .i64 t.ml) := fun z => (H5.out.keep z.below).c10
    have k11 : ∀ z : Sub X, z.val.cell? ⟨p, 11, none⟩ = some (.string t.r0) := fun z => (H5.out.keep z.below).c11
    have k12 : ∀ z : Sub X, z.val.cell? ⟨p, 12, none⟩ = some (.string t.r1) := fun z => (H5.out.keep z.below).c12
    have m0 : ∀ z : Sub X, z.val.cell? ⟨q, 0, none⟩ = some (.int .i64 A.k) := fun z => (H6.out.keep z.below).c0
    have m1 : ∀ z : Sub X, z.val.cell? ⟨q, 1, none⟩ = some (.string A.d) := fun z => (H6.out.keep z.below).c1
    have m2 : ∀ z : Sub X, z.val.cell? ⟨q, 2, none⟩ = some (.string A.r) := fun z => (H6.out.keep z.below).c2
    have m3 : ∀ z : Sub X, z.val.cell? ⟨q, 3, none⟩ = some (.string A.a) := fun z => (H6.out.keep z.below).c3
    have m4 : ∀ z : Sub X, z.val.cell? ⟨q, 4, none⟩ = some (.int .i64 A.q) := fun z => (H6.out.keep z.below).c4
    have m5 : ∀ z : Sub X, z.val.cell? ⟨q, 5, none⟩ = some (.int .i64 A.m) := fun z => (H6.out.keep z.below).c5
    have m6 : ∀ z : Sub X, z.val.cell? ⟨q, 6, none⟩ = some (.int .i64 A.td) := fun z => (H6.out.keep z.below).c6
    have m7 : ∀ z : Sub X, z.val.cell? ⟨q, 7, none⟩ = some (.int .i64 A.sd) := fun z => (H6.out.keep z.below).c7
    have m8 : ∀ z : Sub X, z.val.cell? ⟨q, 8, none⟩ = some (.int .i64 A.p) := fun z => (H6.out.keep z.below).c8
    have m9 : ∀ z : Sub X, z.val.cell? ⟨q, 9, none⟩ = some (.bool A.pa) := fun z => (H6.out.keep z.below).c9
    have m10 : ∀ z : Sub X, z.val.cell? ⟨q, 10, none⟩ = some (.int .i64 A.ml) := fun z => (H6.out.keep z.below).c10
    have m11 : ∀ z : Sub X, z.val.cell? ⟨q, 11, none⟩ = some (.string A.r0) := fun z => (H6.out.keep z.below).c11
    have m12 : ∀ z : Sub X, z.val.cell? ⟨q, 12, none⟩ = some (.string A.r1) := fun z => (H6.out.keep z.below).c12
    have n0 : ∀ z : Sub X, z.val.cell? ⟨q + 1, 0, none⟩ = some (.int .i64 B.k) := fun z => (H7.out.keep z.below).c0
    have n1 : ∀ z : Sub X, z.val.cell? ⟨q + 1, 1, none⟩ = some (.string B.d) := fun z => (H7.out.keep z.below).c1
    have n2 : ∀ z : Sub X, z.val.cell? ⟨q + 1, 2, none⟩ = some (.string B.r) := fun z => (H7.out.keep z.below).c2
    have n3 : ∀ z : Sub X, z.val.cell? ⟨q + 1, 3, none⟩ = some (.string B.a) := fun z => (H7.out.keep z.below).c3
    have n4 : ∀ z : Sub X, z.val.cell? ⟨q + 1, 4, none⟩ = some (.int .i64 B.q) := fun z => (H7.out.keep z.below).c4
    have n5 : ∀ z : Sub X, z.val.cell? ⟨q + 1, 5, none⟩ = some (.int .i64 B.m) := fun z => (H7.out.keep z.below).c5
    have n6 : ∀ z : Sub X, z.val.cell? ⟨q + 1, 6, none⟩ = some (.int .i64 B.td) := fun z => (H7.out.keep z.below).c6
    have n7 : ∀ z : Sub X, z.val.cell? ⟨q + 1, 7, none⟩ = some (.int .i64 B.sd) := fun z => (H7.out.keep z.below).c7
    have n8 : ∀ z : Sub X, z.val.cell? ⟨q + 1, 8, none⟩ = some (.int .i64 B.p) := fun z => (H7.out.keep z.below).c8
    have n9 : ∀ z : Sub X, z.val.cell? ⟨q + 1, 9, none⟩ = some (.bool B.pa) := fun z => (H7.out.keep z.below).c9
    have n10 : ∀ z : Sub X, z.val.cell? ⟨q + 1, 10, none⟩ = some (.int .i64 B.ml) := fun z => (H7.out.keep z.below).c10
    have n11 : ∀ z : Sub X, z.val.cell? ⟨q + 1, 11, none⟩ = some (.string B.r0) := fun z => (H7.out.keep z.below).c11
    have n12 : ∀ z : Sub X, z.val.cell? ⟨q + 1, 12, none⟩ = some (.string B.r1) := fun z => (H7.out.keep z.below).c12
    refine wp_region_sub (w0 := X) (by kernel_rfl) (by kernel_rfl) (Below.refl _ _).drew ?_
    repeat (first | go_big_quiet_step ((first | (go_at_call 18; with_reducible exact sub_of _ (CKA _ (KS _).out).out) | (go_at_call 18; with_reducible exact sub_of _ (CKB _ (KS _).out).out) | (go_at_call 13; exact sub_of _ (ALA _ (KS _).out).out) | (go_at_call 19; with_reducible exact sub_of _ (IA _).out) | (go_at_call 19; with_reducible exact sub_of _ (IB _).out) | (go_at_call 19; with_reducible exact sub_of _ (IT _).out))) | quiet_step ((first | (go_at_call 18; with_reducible exact sub_of _ (CKA _ (KS _).out).out) | (go_at_call 18; with_reducible exact sub_of _ (CKB _ (KS _).out).out) | (go_at_call 13; exact sub_of _ (ALA _ (KS _).out).out) | (go_at_call 19; with_reducible exact sub_of _ (IA _).out) | (go_at_call 19; with_reducible exact sub_of _ (IB _).out) | (go_at_call 19; with_reducible exact sub_of _ (IT _).out))))
    refine wpQuiet_nil ?_
    rintro _ ⟨y, rfl⟩
    have hb := y.below
    clear g1 g2 g3 g4 g5 g6 k0 k1 k2 k3 k4 k5 k6 k7 k8 k9 k10 k11 k12 m0 m1 m2 m3 m4 m5 m6 m7 m8 m9 m10 m11 m12 n0 n1 n2 n3 n4 n5 n6 n7 n8 n9 n10 n11 n12 KS
    have H5 := hide (H5.out.keep hb)
    have H6 := hide (H6.out.keep hb)
    have H7 := hide (H7.out.keep hb)
    have HR := hide (HR.out.trans (hb.mono HR.out.size))
    clear hb
    generalize y.val = Y at *
    have ev := EV.out
    by_cases he : HE = 0
    · have eh := EH.out he
      have h1 : (HE != 0) = false := by simpa using he
      clear he
      obtain ⟨_, d0, d1, d2, d3, d4, d5, d6, d7, d8, d9, d10, d11, d12⟩ := H5.out
      obtain ⟨_, c0, c1, c2, c3, c4, c5, c6, c7, c8, c9, c10, c11, c12⟩ := H6.out
      go_wp2_with fail
      refine ((ML _).out).mono ?_
      rintro e y1 ⟨rfl, hb⟩
      clear c0 c1 c2 c3 c4 c5 c6 c7 c8 c9 c10 c11 c12 d0 d1 d2 d3 d4 d5 d6 d7 d8 d9 d10 d11 d12
      have H5 := hide (H5.out.keep hb)
      have H6 := hide (H6.out.keep hb)
      have H7 := hide (H7.out.keep hb)
      have HR := hide (HR.out.trans (hb.mono HR.out.size))
      clear hb
      obtain ⟨_, d0, d1, d2, d3, d4, d5, d6, d7, d8, d9, d10, d11, d12⟩ := H5.out
      obtain ⟨_, c0, c1, c2, c3, c4, c5, c6, c7, c8, c9, c10, c11, c12⟩ := H7.out
      go_wp2_with fail
      refine ((MH _).out).mono ?_
      rintro e y2 ⟨rfl, hb⟩
      clear c0 c1 c2 c3 c4 c5 c6 c7 c8 c9 c10 c11 c12 d0 d1 d2 d3 d4 d5 d6 d7 d8 d9 d10 d11 d12
      have H5 := hide (H5.out.keep hb)
      have H7 := hide (H7.out.keep hb)
      have HR := hide (HR.out.trans (hb.mono HR.out.size))
      clear hb
      go_wp2_with fail
      refine ((K _ (S.out.keep HR.out)).out).mono ?_
      rintro e y3 ⟨rfl, hb⟩
      have H5 := hide (H5.out.keep hb)
      have HR := hide (HR.out.trans (hb.mono HR.out.size))
      clear hb
      obtain ⟨_, c0, c1, c2, c3, c4, c5, c6, c7, c8, c9, c10, c11, c12⟩ := H5.out
      go_wp2_with fail
      go_ret
      exact ⟨rfl, HR.out⟩
    · have h1 : (HE != 0) = true := by simpa using he
      clear he
      obtain ⟨_, d0, d1, d2, d3, d4, d5, d6, d7, d8, d9, d10, d11, d12⟩ := H5.out
      obtain ⟨_, c0, c1, c2, c3, c4, c5, c6, c7, c8, c9, c10, c11, c12⟩ := H6.out
      go_wp2_with fail
      refine ((ML _).out).mono ?_
      rintro e y1 ⟨rfl, hb⟩
      clear c0 c1 c2 c3 c4 c5 c6 c7 c8 c9 c10 c11 c12 d0 d1 d2 d3 d4 d5 d6 d7 d8 d9 d10 d11 d12
      have H5 := hide (H5.out.keep hb)
      have H6 := hide (H6.out.keep hb)
      have H7 := hide (H7.out.keep hb)
      have HR := hide (HR.out.trans (hb.mono HR.out.size))
      clear hb
      obtain ⟨_, d0, d1, d2, d3, d4, d5, d6, d7, d8, d9, d10, d11, d12⟩ := H5.out
      obtain ⟨_, c0, c1, c2, c3, c4, c5, c6, c7, c8, c9, c10, c11, c12⟩ := H7.out
      go_wp2_with fail
      refine ((MH _).out).mono ?_
      rintro e y2 ⟨rfl, hb⟩
      clear c0 c1 c2 c3 c4 c5 c6 c7 c8 c9 c10 c11 c12 d0 d1 d2 d3 d4 d5 d6 d7 d8 d9 d10 d11 d12
      have H5 := hide (H5.out.keep hb)
      have H7 := hide (H7.out.keep hb)
      have HR := hide (HR.out.trans (hb.mono HR.out.size))
      clear hb
      go_wp2_with fail
      refine ((K _ (S.out.keep HR.out)).out).mono ?_
      rintro e y3 ⟨rfl, hb⟩
      have H5 := hide (H5.out.keep hb)
      have HR := hide (HR.out.trans (hb.mono HR.out.size))
      clear hb
      obtain ⟨_, c0, c1, c2, c3, c4, c5, c6, c7, c8, c9, c10, c11, c12⟩ := H5.out
      go_wp2_with fail
      go_ret
      exact ⟨rfl, HR.out⟩
  · have e1 : (spE t a1 != 0) = true := by simpa using hE
    clear h w1 hL hE
    generalize spE t a1 = E at *
    generalize spA t a1 = A at *
    generalize spB t a1 = B at *
    go_enter Tryd.func5, Tryd.ntmps5
    obtain ⟨_, c0, c1, c2, c3, c4, c5, c6, c7, c8, c9, c10, c11, c12⟩ := HB.out
    go_wp2_with fail
    refine ((LO _).out).mono ?_
    rintro e x1 ⟨rfl, hb⟩
    clear c0 c1 c2 c3 c4 c5 c6 c7 c8 c9 c10 c11 c12
    have HB := hide (HB.out.keep hb)
    have HR := hide (HR.out.trans (hb.mono HR.out.size))
    clear hb
    have hb := one_alloc x1 (Obj.cells #[.int .i64 t.k, .string t.d, .string t.r, .string t.a, .int .i64 t.q, .int .i64 t.m, .int .i64 t.td, .int .i64 t.sd, .int .i64 t.p, .bool t.pa, .int .i64 t.ml, .string t.r0, .string t.r1] 25)
    have HR := hide (HR.out.trans (hb.mono HR.out.size))
    clear hb
    go_wp2_with fail
    refine ((SP _ (S.out.keep HR.out)).out).mono ?_
    rintro e x2 ⟨rfl, hb⟩
    have HR := hide (HR.out.trans (hb.mono HR.out.size))
    clear hb
    have hb := two_allocs x2 (Obj.cells #[.int .i64 A.k, .string A.d, .string A.r, .string A.a, .int .i64 A.q, .int .i64 A.m, .int .i64 A.td, .int .i64 A.sd, .int .i64 A.p, .bool A.pa, .int .i64 A.ml, .string A.r0, .string A.r1] 25) (Obj.cells #[.int .i64 B.k, .string B.d, .string B.r, .string B.a, .int .i64 B.q, .int .i64 B.m, .int .i64 B.td, .int .i64 B.sd, .int .i64 B.p, .bool B.pa, .int .i64 B.ml, .string B.r0, .string B.r1] 25)
    have HR := hide (HR.out.trans (hb.mono HR.out.size))
    clear hb
    go_wp2_with fail
    refine ((K _ (S.out.keep HR.out)).out).mono ?_
    rintro e x3 ⟨rfl, hb⟩
    have HR := hide (HR.out.trans (hb.mono HR.out.size))
    clear hb
    go_wp2_with fail
    go_ret
    exact ⟨rfl, HR.out⟩
end Go.Proofs.YtipgpmjhoaenlaaDoor
