/-
  Contract of Largest at this translation.
-/
import Derived.Test.YtipgpmjhoaenlaaDoorSe
import Derived.Test.YtipgpmjhoaenlaaDoorP7b
namespace Go.Proofs.YtipgpmjhoaenlaaDoor
open Go.RowKit
set_option linter.unusedVariables false
set_option linter.unusedSimpArgs false
set_option linter.unnecessarySimpa false

/-- The least number below M at which B holds, or M. -/
def sVal (B : Int → Bool) (M : Int) : Int := (((List.range M.toNat).find? fun n : Nat => B (n : Int)).map fun n : Nat => (n : Int)).getD M
theorem fnd_sVal (B : Int → Bool) (M : Int) (h : 0 ≤ M) : Fnd B M (sVal B M) := by
  unfold sVal
  cases hf : (List.range M.toNat).find? fun n : Nat => B (n : Int) with
  | some J =>
    rw [List.find?_range_eq_some] at hf
    obtain ⟨a, b, c⟩ := hf
    have := List.mem_range.1 b
    refine ⟨by simp, by simp; omega, fun i h1 h2 => ?_, fun _ => by simpa using a⟩
    obtain ⟨n, rfl⟩ := Int.eq_ofNat_of_zero_le h1
    have := c n (by simpa using h2)
    simpa using this
  | none =>
    rw [List.find?_range_eq_none] at hf
    refine ⟨by simpa using h, by simp, fun i h1 h2 => ?_, fun h2 => absurd h2 (by simp)⟩
    obtain ⟨n, rfl⟩ := Int.eq_ofNat_of_zero_le h1
    have := hf n (by simp at h2; omega)
    simpa using this
theorem Fnd.uniq {B : Int → Bool} {M s t : Int} (h : Fnd B M s) (k : Fnd B M t) : s = t := by
  by_cases h1 : s < t
  · have a := k.no s h.lo h1
    have b := h.yes (by have := k.hi; omega)
    rw [a] at b; cases b
  · by_cases h2 : t < s
    · have a := h.no t k.lo h2
      have b := k.yes (by have := h.hi; omega)
      rw [a] at b; cases b
    · omega
/-- Whether the part after i of a trade is too much. -/
def tmB (t : Tr) (room i : Int) : Bool := decide (t.k = 1) && decide (room < csh t ((i + 1) * t.ml))
theorem csh_mono {t : Tr} {a b : Int} (g : Good t) (h : a ≤ b) : csh t a ≤ csh t b := by
  unfold csh
  have := g.q1
  exact Int.ediv_le_ediv (by omega) (Int.mul_le_mul_of_nonneg_left h g.m0)
theorem tm_mono {t : Tr} {room : Int} (g : Good t) (l : 0 ≤ t.ml) (i j : Int) (h0 : 0 ≤ i) (h : i ≤ j) (hi : tmB t room i = true) : tmB t room j = true := by
  unfold tmB at *
  simp only [Bool.and_eq_true, decide_eq_true_eq] at *
  have := csh_mono g (Int.mul_le_mul_of_nonneg_right (show i + 1 ≤ j + 1 by omega) l)
  exact ⟨hi.1, by omega⟩
def lgM (t : Tr) (held : Int) : Int := max (min held (t.q - 1)) 0 / t.ml
def lgS (t : Tr) (held room : Int) : Int := sVal (tmB t room) (lgM t held)
theorem lgM_bd {t : Tr} {held : Int} (g : Good t) (l : 1 ≤ t.ml) : 0 ≤ lgM t held ∧ lgM t held ≤ 1000000000000000 ∧ lgM t held * t.ml ≤ t.q - 1 ∧ ∀ i, i < lgM t held → (i + 1) * t.ml ≤ t.q - 1 := by
  have q1 := g.q1
  have q2 := g.q2
  have a : 0 ≤ max (min held (t.q - 1)) 0 := by omega
  have b : max (min held (t.q - 1)) 0 ≤ t.q - 1 := by omega
  have c : 0 ≤ lgM t held := Int.ediv_nonneg a (by omega)
  have d : lgM t held * t.ml ≤ t.q - 1 := Int.le_trans (Int.ediv_mul_le _ (by omega)) b
  refine ⟨c, ?_, d, fun i hi => Int.le_trans (Int.mul_le_mul_of_nonneg_right (by omega) (by omega)) d⟩
  have : lgM t held * 1 ≤ lgM t held * t.ml := Int.mul_le_mul_of_nonneg_left l c
  omega
set_option maxHeartbeats 4000000 in
set_option maxRecDepth 20000 in
theorem tm_any (t : Tr) (room i : Int) (b c : Nat) (w : World) (S : Shp w) (h : t.Ok) (ha : alB t = true) (i0 : 0 ≤ i) (hi : (i + 1) * t.ml ≤ t.q - 1) (HB : TB b t w) (hc : w.cell? ⟨c, 0, none⟩ = some (.int .i64 room)) (lc : c < w.heap.size) :
    Calls Tryd.prog 35 #[.int .i64 i, .pointer (some ⟨b, 0, none⟩), .pointer (some ⟨c, 0, none⟩)] w fun e w' => e = .returned (.bool (tmB t room i)) ∧ Below w.heap.size w w' := by
  obtain ⟨a1, a2, a3⟩ := alB_iff.1 ha
  have g := good_of a1
  obtain ⟨l1, l2⟩ := g.la a2
  have q2 := g.q2
  have pl : i + 1 ≤ (i + 1) * t.ml := by
    have := Int.mul_le_mul_of_nonneg_left l1 (show 0 ≤ i + 1 by omega)
    omega
  have ce : cE t ((i + 1) * t.ml) = 0 := by unfold cE; rw [if_neg (fun h => h a1), if_neg (by omega)]
  have cv : cV t ((i + 1) * t.ml) = csh t ((i + 1) * t.ml) := by unfold cV; rw [if_neg (fun h => h a1), if_neg (by omega)]
  have i1 : i ≤ 1000000000000000 := by omega
  have hw : IntKind.i64.wrap ((i + 1) * t.ml) = (i + 1) * t.ml := by rw [IntKind.wrap_i64]; omega
  have hw2 : wrap64 ((i + 1) * t.ml) = (i + 1) * t.ml := by unfold wrap64; omega
  have CA := fun w S => hide (cash_any t ((i + 1) * t.ml) w S h)
  rw [ce, cv] at CA
  unfold tmB
  have S := hide S
  have HC := hide hc
  have HB := hide HB
  clear h ha hi a1 a2 a3 g l2 ce cv hc pl
  generalize csh t ((i + 1) * t.ml) = V at *
  have LC := hide lc
  clear lc
  have hc := HC.out
  obtain ⟨_, c0, c1, c2, c3, c4, c5, c6, c7, c8, c9, c10, c11, c12⟩ := HB.out
  go_enter Tryd.func35, Tryd.ntmps35
  by_cases hk : t.k = 1
  · have k1 : (t.k == 1) = true := by simpa using hk
    rw [decide_eq_true hk, Bool.true_and]
    clear hk
    go_wp2_with fail
    refine ((CA _ S.out).out).mono ?_
    rintro e x1 ⟨rfl, hb⟩
    clear hc c0 c1 c2 c3 c4 c5 c6 c7 c8 c9 c10 c11 c12
    have hc := (hb.cell (p := ⟨c, 0, none⟩) (by simpa using LC.out)).trans HC.out
    obtain ⟨_, c0, c1, c2, c3, c4, c5, c6, c7, c8, c9, c10, c11, c12⟩ := HB.out.keep hb
    have HR := hide hb
    clear hb CA
    go_wp2_with fail
    go_ret
    exact ⟨rfl, HR.out⟩
  · have k1 : (t.k == 1) = false := by simpa using hk
    rw [decide_eq_false hk, Bool.false_and]
    clear hk
    go_wp2_with fail
    refine ((CA _ S.out).out).mono ?_
    rintro e x1 ⟨rfl, hb⟩
    clear hc c0 c1 c2 c3 c4 c5 c6 c7 c8 c9 c10 c11 c12
    have hc := (hb.cell (p := ⟨c, 0, none⟩) (by simpa using LC.out)).trans HC.out
    obtain ⟨_, c0, c1, c2, c3, c4, c5, c6, c7, c8, c9, c10, c11, c12⟩ := HB.out.keep hb
    have HR := hide hb
    clear hb CA
    go_wp2_with fail
    go_ret
    exact ⟨rfl, HR.out⟩
/-- What Largest answers. -/
def lgE (t : Tr) : Int := if tE t ≠ 0 then tE t else if alB t = false then 10 else 0
def lgV (t : Tr) (held room : Int) : Int := if lgE t ≠ 0 then 0 else if ptB t (lgS t held room * t.ml) = true then lgS t held room * t.ml else 0
theorem search_at (B : Int → Bool) (M : Int) (b c : Nat) (w : World) (m0 : 0 ≤ M) (m1 : M ≤ 1000000000000000) (mono : ∀ i j, 0 ≤ i → i ≤ j → B i = true → B j = true)
    (HC : ∀ i wx, 0 ≤ i → i < M → Below w.heap.size w wx → Calls Tryd.prog 35 #[.int .i64 i, .pointer (some ⟨b, 0, none⟩), .pointer (some ⟨c, 0, none⟩)] wx fun e w' => e = .returned (.bool (B i)) ∧ Below wx.heap.size wx w') :
    Calls Tryd.prog 36 #[.int .i64 M, .func (.func 35) #[] #[.pointer (some ⟨b, 0, none⟩), .pointer (some ⟨c, 0, none⟩)]] w fun e w' => e = .returned (.int .i64 (sVal B M)) ∧ Below w.heap.size w w' :=
  (search_any B M b c w m0 m1 mono HC).mono fun e w' ⟨s, hs, he, hb⟩ => ⟨by rw [he, hs.uniq (fnd_sVal B M m0)], hb⟩
set_option maxHeartbeats 8000000 in
set_option maxRecDepth 20000 in
theorem largest_ok (t : Tr) (held room : Int) (w : World) (S : Shp w) (h : t.Ok) (ha : alB t = true) (hh : -9223372036854775808 ≤ held ∧ held ≤ 9223372036854775807) :
    Calls Tryd.prog 22 #[.agg #[.int .i64 t.k, .string t.d, .string t.r, .string t.a, .int .i64 t.q, .int .i64 t.m, .int .i64 t.td, .int .i64 t.sd, .int .i64 t.p, .bool t.pa, .int .i64 t.ml, .string t.r0, .string t.r1], .int .i64 held, .int .i64 room] w fun e w' => e = .returned (.tuple #[.int .i64 (if ptB t (lgS t held room * t.ml) = true then lgS t held room * t.ml else 0), .int .i64 0]) ∧ Below w.heap.size w w' := by
  obtain ⟨a1, a2, a3⟩ := alB_iff.1 ha
  have g := good_of a1
  obtain ⟨l1, l2⟩ := g.la a2
  have q1 := g.q1
  have q2 := g.q2
  obtain ⟨M0, M1, M2, M3⟩ := lgM_bd (held := held) g l1
  have F := fnd_sVal (tmB t room) (lgM t held) M0
  have sl : lgS t held room * t.ml ≤ t.q - 1 := Int.le_trans (Int.mul_le_mul_of_nonneg_right F.hi (by omega)) M2
  have s0 : 0 ≤ lgS t held room * t.ml := Int.mul_nonneg F.lo (by omega)
  have hw : wrap64 (lgS t held room * t.ml) = lgS t held room * t.ml := by unfold wrap64; omega
  have hw2 : IntKind.i64.wrap (lgS t held room * t.ml) = lgS t held room * t.ml := by rw [IntKind.wrap_i64]; omega
  have CK := fun w S => hide (tcheck_any t w S h)
  have AL := fun w S => hide (al_any t w S h)
  have PT := fun n w S => hide (part_any t n w S h ha)
  have TM := fun i b c w S i0 hi HB hc lc => hide (tm_any t room i b c w S h ha i0 hi HB hc lc)
  rw [a1] at CK
  rw [ha] at AL
  have MO := hide (fun i j h0 h hi => tm_mono (t := t) (room := room) g (by omega) i j h0 h hi)
  have SE := fun b c w HC => hide (search_at (tmB t room) (max (min held (t.q - 1)) 0 / t.ml) b c w M0 M1 MO.out HC)
  have e : sVal (tmB t room) (max (min held (t.q - 1)) 0 / t.ml) = lgS t held room := rfl
  rw [e] at SE
  have M3 : Hid (∀ i, i < (max (min held (t.q - 1)) 0 / t.ml) → (i + 1) * t.ml ≤ t.q - 1) := hide M3
  have S := hide S
  have HR := hide (two_allocs w (Obj.cells #[.int .i64 t.k, .string t.d, .string t.r, .string t.a, .int .i64 t.q, .int .i64 t.m, .int .i64 t.td, .int .i64 t.sd, .int .i64 t.p, .bool t.pa, .int .i64 t.ml, .string t.r0, .string t.r1] 25) (Obj.cells #[.int .i64 room] 2))
  have HB := hide ((TB.new t w 25).keep (one_alloc _ (Obj.cells #[.int .i64 room] 2)))
  have HC : Hid (((w.alloc (Obj.cells #[.int .i64 t.k, .string t.d, .string t.r, .string t.a, .int .i64 t.q, .int .i64 t.m, .int .i64 t.td, .int .i64 t.sd, .int .i64 t.p, .bool t.pa, .int .i64 t.ml, .string t.r0, .string t.r1] 25)).alloc (Obj.cells #[.int .i64 room] 2)).cell? ⟨w.heap.size + 1, 0, none⟩ = some (.int .i64 room)) := hide (by simp [go_sem])
  have LC : Hid (w.heap.size + 1 < ((w.alloc (Obj.cells #[.int .i64 t.k, .string t.d, .string t.r, .string t.a, .int .i64 t.q, .int .i64 t.m, .int .i64 t.td, .int .i64 t.sd, .int .i64 t.p, .bool t.pa, .int .i64 t.ml, .string t.r0, .string t.r1] 25)).alloc (Obj.cells #[.int .i64 room] 2)).heap.size) := hide (by simp)
  clear h ha a1 a2 a3 g e F sl s0 M2
  have lz : (t.ml == 0) = false := by simpa using (show ¬ t.ml = 0 by omega)
  have x0 : 0 ≤ max (min held (t.q - 1)) 0 := by omega
  generalize hR : (if ptB t (lgS t held room * t.ml) = true then lgS t held room * t.ml else 0) = R
  have RH := hide hR
  clear hR
  go_enter Tryd.func22, Tryd.ntmps22
  obtain ⟨_, c0, c1, c2, c3, c4, c5, c6, c7, c8, c9, c10, c11, c12⟩ := HB.out
  have hc := HC.out
  go_wp2_with fail
  refine ((CK _ (S.out.keep HR.out)).out).mono ?_
  rintro e x1 ⟨rfl, hb⟩
  clear c0 c1 c2 c3 c4 c5 c6 c7 c8 c9 c10 c11 c12 hc
  have HB := hide (HB.out.keep hb)
  have HC := hide ((hb.cell (p := ⟨w.heap.size + 1, 0, none⟩) (by simpa using LC.out)).trans HC.out)
  have LC := hide (Nat.lt_of_lt_of_le LC.out hb.size)
  have HR := hide (HR.out.trans (hb.mono HR.out.size))
  clear hb
  obtain ⟨_, c0, c1, c2, c3, c4, c5, c6, c7, c8, c9, c10, c11, c12⟩ := HB.out
  have hc := HC.out
  go_wp2_with fail
  refine ((AL _ (S.out.keep HR.out)).out).mono ?_
  rintro e x2 ⟨rfl, hb⟩
  clear c0 c1 c2 c3 c4 c5 c6 c7 c8 c9 c10 c11 c12 hc
  have HB := hide (HB.out.keep hb)
  have HC := hide ((hb.cell (p := ⟨w.heap.size + 1, 0, none⟩) (by simpa using LC.out)).trans HC.out)
  have LC := hide (Nat.lt_of_lt_of_le LC.out hb.size)
  have HR := hide (HR.out.trans (hb.mono HR.out.size))
  clear hb
  obtain ⟨_, c0, c1, c2, c3, c4, c5, c6, c7, c8, c9, c10, c11, c12⟩ := HB.out
  have hc := HC.out
  go_wp2_with fail
  clear c0 c1 c2 c3 c4 c5 c6 c7 c8 c9 c10 c11 c12 hc
  have HF : Hid (∀ z : Sub x2, ∀ i wx, 0 ≤ i → i < (max (min held (t.q - 1)) 0 / t.ml) → Below z.val.heap.size z.val wx → Calls Tryd.prog 35 #[.int .i64 i, .pointer (some ⟨w.heap.size, 0, none⟩), .pointer (some ⟨w.heap.size + 1, 0, none⟩)] wx fun e w' => e = .returned (.bool (tmB t room i)) ∧ Below wx.heap.size wx w') := hide (fun z i wx a b hb => by
    have bw : Below x2.heap.size x2 wx := z.below.trans (hb.mono z.below.size)
    exact (TM i _ _ wx (S.out.keep (HR.out.trans (bw.mono HR.out.size))) a (M3.out i b) (HB.out.keep bw) ((bw.cell (p := ⟨w.heap.size + 1, 0, none⟩) (by simpa using LC.out)).trans HC.out) (Nat.lt_of_lt_of_le LC.out bw.size)).out)
  have k10 : ∀ z : Sub x2, z.val.cell? ⟨w.heap.size, 10, none⟩ = some (.int .i64 t.ml) := fun z => (HB.out.keep z.below).c10
  refine wp_region_sub (w0 := x2) (by kernel_rfl) (by kernel_rfl) (Below.refl _ _).drew ?_
  repeat (first | go_big_quiet_step ((go_at_call 36; exact sub_of _ (SE _ _ _ (HF.out _)).out)) | quiet_step ((go_at_call 36; exact sub_of _ (SE _ _ _ (HF.out _)).out)))
  refine wpQuiet_nil ?_
  rintro _ ⟨y, rfl⟩
  clear k10 HF
  have HB := hide (HB.out.keep y.below)
  have HR := hide (HR.out.trans (y.below.mono HR.out.size))
  generalize y.val = x3 at *
  obtain ⟨_, c0, c1, c2, c3, c4, c5, c6, c7, c8, c9, c10, c11, c12⟩ := HB.out
  cases hp : ptB t (lgS t held room * t.ml)
  · have PT := fun w S => PT (lgS t held room * t.ml) w S
    rw [hp] at PT
    have RR := hide (show 0 = R by rw [← RH.out, if_neg (by rw [hp]; decide)])
    go_wp2_with fail
    refine ((PT _ (S.out.keep HR.out)).out).mono ?_
    rintro e x4 ⟨rfl, hb⟩
    have HR := hide (HR.out.trans (hb.mono HR.out.size))
    clear hb c0 c1 c2 c3 c4 c5 c6 c7 c8 c9 c10 c11 c12
    go_wp2_with fail
    go_ret2
    exact ⟨ret_ii RR.out rfl, HR.out⟩
  · have PT := fun w S => PT (lgS t held room * t.ml) w S
    rw [hp] at PT
    have RR := hide (show lgS t held room * t.ml = R by rw [← RH.out, if_pos hp])
    clear hp
    go_wp2_with fail
    refine ((PT _ (S.out.keep HR.out)).out).mono ?_
    rintro e x4 ⟨rfl, hb⟩
    have HR := hide (HR.out.trans (hb.mono HR.out.size))
    clear hb c0 c1 c2 c3 c4 c5 c6 c7 c8 c9 c10 c11 c12
    go_wp2_with fail
    go_ret2
    exact ⟨ret_ii RR.out rfl, HR.out⟩
theorem largest_any (t : Tr) (held room : Int) (w : World) (S : Shp w) (h : t.Ok) (hh : -9223372036854775808 ≤ held ∧ held ≤ 9223372036854775807) :
    Calls Tryd.prog 22 #[.agg #[.int .i64 t.k, .string t.d, .string t.r, .string t.a, .int .i64 t.q, .int .i64 t.m, .int .i64 t.td, .int .i64 t.sd, .int .i64 t.p, .bool t.pa, .int .i64 t.ml, .string t.r0, .string t.r1], .int .i64 held, .int .i64 room] w fun e w' => e = .returned (.tuple #[.int .i64 (lgV t held room), .int .i64 (lgE t)]) ∧ Below w.heap.size w w' := by
  unfold lgV
  cases ha : alB t
  · have hE0 : lgE t ≠ 0 := by
      unfold lgE
      by_cases hE : tE t = 0
      · rw [if_neg (fun h => h hE), if_pos ha]; decide
      · rw [if_pos hE]; exact hE
    rw [if_pos hE0]
    have S := hide S
    have CK := fun w S => hide (tcheck_any t w S h)
    have AL := fun w S => hide (al_any t w S h)
    rw [ha] at AL
    have HR := hide (two_allocs w (Obj.cells #[.int .i64 t.k, .string t.d, .string t.r, .string t.a, .int .i64 t.q, .int .i64 t.m, .int .i64 t.td, .int .i64 t.sd, .int .i64 t.p, .bool t.pa, .int .i64 t.ml, .string t.r0, .string t.r1] 25) (Obj.cells #[.int .i64 room] 2))
    have HB := hide ((TB.new t w 25).keep (one_alloc _ (Obj.cells #[.int .i64 room] 2)))
    unfold lgE
    by_cases hE : tE t = 0
    · rw [if_neg (fun h => h hE), if_pos ha]
      rw [hE] at CK
      clear h ha hE hE0 hh
      go_enter Tryd.func22, Tryd.ntmps22
      obtain ⟨_, c0, c1, c2, c3, c4, c5, c6, c7, c8, c9, c10, c11, c12⟩ := HB.out
      go_wp2_with fail
      refine ((CK _ (S.out.keep HR.out)).out).mono ?_
      rintro e x1 ⟨rfl, hb⟩
      clear c0 c1 c2 c3 c4 c5 c6 c7 c8 c9 c10 c11 c12
      have HB := hide (HB.out.keep hb)
      have HR := hide (HR.out.trans (hb.mono HR.out.size))
      clear hb
      obtain ⟨_, c0, c1, c2, c3, c4, c5, c6, c7, c8, c9, c10, c11, c12⟩ := HB.out
      go_wp2_with fail
      refine ((AL _ (S.out.keep HR.out)).out).mono ?_
      rintro e x2 ⟨rfl, hb⟩
      clear c0 c1 c2 c3 c4 c5 c6 c7 c8 c9 c10 c11 c12
      have HR := hide (HR.out.trans (hb.mono HR.out.size))
      clear hb
      go_wp2_with fail
      go_ret2
      exact ⟨rfl, HR.out⟩
    · rw [if_pos hE]
      have e1 : (tE t != 0) = true := by simpa using hE
      generalize tE t = E at *
      clear h ha hE hE0 hh AL
      go_enter Tryd.func22, Tryd.ntmps22
      obtain ⟨_, c0, c1, c2, c3, c4, c5, c6, c7, c8, c9, c10, c11, c12⟩ := HB.out
      go_wp2_with fail
      refine ((CK _ (S.out.keep HR.out)).out).mono ?_
      rintro e x1 ⟨rfl, hb⟩
      clear c0 c1 c2 c3 c4 c5 c6 c7 c8 c9 c10 c11 c12
      have HR := hide (HR.out.trans (hb.mono HR.out.size))
      clear hb
      go_wp2_with fail
      go_ret2
      exact ⟨rfl, HR.out⟩
  · have hE0 : lgE t = 0 := by
      unfold lgE
      rw [if_neg (fun h => h (alB_iff.1 ha).1), if_neg (by rw [ha]; decide)]
    rw [if_neg (fun h => h hE0), hE0]
    exact largest_ok t held room w S h ha hh
end Go.Proofs.YtipgpmjhoaenlaaDoor
