/-
  Contracts of the reference's Expand, Luhn and Mod97 at this translation.
-/
import Derived.Test.YtjjaemobgfconaaDoorId8
import Derived.OwnWalk
import Derived.Laws.OwnMore
namespace Go.Proofs.YtjjaemobgfconaaDoor
open Go.RowKit
set_option linter.unusedVariables false

theorem Tryd.info3 : (Tryd.prog.info? 3).map (fun i => (i.zero, i.size, i.bytes)) = some (some (.int .i64 0), 1, 8) := by kernel_rfl

/-- What a row of digits leaves. -/
def ExP (w : World) (l : List Int) (e : Ending) (w' : World) : Prop := ∃ v, e = .returned v ∧ w'.ownsRow w.heap.size 3 1 v l.length (l.map (Value.int .i64)) ∧ Below w.heap.size w w'

theorem below_append {w w1 w2 : World} {v : Value} {n : Nat} {xs : List Value} (hb : Below w.heap.size w w1) (hown : w1.ownsRow w.heap.size 3 1 v n xs) (hg : w1.grownBy w2 v.ownBlock) : Below w.heap.size w w2 :=
  hb.grown hg hb.size (fun k hk => (hown.lt k hk).1)

set_option maxHeartbeats 4000000 in
set_option maxRecDepth 100000 in
theorem expand_any (s : ByteArray) (w : World) (h : Als s) (hm : s.size ≤ 200) : Calls Tryd.prog 67 #[.string s] w (ExP w (ex (bl s))) := by
  obtain ⟨i0, hi, hz0, hz1, hz2⟩ := info_parts Tryd.info3
  have HI := hide hi
  have HZ0 := hide hz0
  have HZ1 := hide hz1
  have HZ2 := hide hz2
  have i1 := hide (idx s)
  have HA := hide h
  have hlast : (bl s).take s.size = bl s := by rw [List.take_of_length_le]; rw [bl_len]; exact Nat.le_refl _
  have HL := hide hlast
  have XL := hide (fun k => ex_len ((bl s).take k))
  have TL := hide (fun k => List.length_take_le k (bl s))
  have B0 := hide (Below.refl w.heap.size w)
  clear h hi hz0 hz1 hz2 hlast
  go_enter Tryd.func67, Tryd.ntmps67
  go_wp2_with fail
  go_loopw [3, 4] (fun v i wr => ∃ k : Nat, k ≤ s.size ∧ i = .int .i64 k ∧ Hid (wr.ownsRow w.heap.size 3 1 v (ex ((bl s).take k)).length ((ex ((bl s).take k)).map (Value.int .i64))) ∧ Hid (Below w.heap.size w wr)) (fun _v i _ => s.size - (intOf i).toNat)
  case atStart => exact ⟨0, Nat.zero_le _, rfl, hide (World.ownsRow_nil _ _ _ _), B0⟩
  case round =>
    obtain ⟨k, hk, rfl, hown, B⟩ := hrel
    by_cases hlt : k < s.size
    · have hlt1 : k + 1 ≤ s.size := hlt
      have j1 := i1.out k hlt
      have A := HA.out k hlt
      have di := fun w => hide (dig_any (gB s k) w)
      have T := hide (bl_take s k hlt)
      have len1 : (ex ((bl s).take k)).length ≤ 400 := by have := XL.out k; have := TL.out k; omega
      have HX : Hid (ex ((bl s).take (k + 1)) = ex ((bl s).take k) ++ exc (gB s k)) := hide (by rw [T.out, ex_append]; simp [ex])
      generalize ex ((bl s).take k) = L at *
      have hbs := B.out.size
      by_cases h57 : gB s k ≤ 57
      · have h48 : 48 ≤ gB s k := by unfold al at A; omega
        have hx : exc (gB s k) = [gB s k - 48] := if_pos h57
        rw [hx] at HX
        rw [isD_yes h48 h57] at di
        have e1 : IntKind.u8.wrap (gB s k - 48) = gB s k - 48 := by simp [IntKind.wrap, IntKind.bits, IntKind.signed]; omega
        clear hx A T hlt
        generalize gB s k = x at *
        go_wp2_with (first
          | (go_at_call 66; refine (di _).out.mono ?_; rintro e w' ⟨rfl, rfl⟩)
          | (at_builtin; refine wpList_append_own _ rfl _ _ 102 rfl w.heap.size 3 i0 (.int .i64 0) 1 8 Tryd.underlying102 HI.out HZ0.out HZ1.out HZ2.out rfl (by decide) _ _ _ rfl (hown.out.alloc _) ⟨wr.heap.size, 0, none⟩ 1 1 [.int .i64 (x - 48)] rfl rfl ?c1 ?c2 ?c3 ?c4 ?c5 ?_))
        case c1 =>
          intro j u hj
          match j, hj with
          | 0, hj => simp at hj; subst hj; simp [Addr.add, go_sem]
        case c2 => intro u hu; simp at hu; subst hu; rfl
        case c3 => unfold maxLen; omega
        case c4 => omega
        case c5 => simp; omega
        · intro v' w1 hown' hgrow _
          have R1 : Hid (w1.ownsRow w.heap.size 3 1 v' (ex ((bl s).take (k + 1))).length ((ex ((bl s).take (k + 1))).map (Value.int .i64))) := hide (by rw [HX.out]; simpa using hown')
          have R2 := hide (below_append (B.out.alloc hbs _) (hown.out.alloc _) hgrow)
          clear hown' hgrow
          go_wp2_with fail
          go_roundw
          case rel => exact ⟨k + 1, hlt1, by go_num, R1, R2⟩
          case measure => simp [intOf]; omega
      · have h65 : 65 ≤ gB s k := by unfold al at A; omega
        have h90 : gB s k ≤ 90 := by unfold al at A; omega
        have hx : exc (gB s k) = [(gB s k - 65 + 10) / 10, (gB s k - 65 + 10) % 10] := by unfold exc; rw [if_neg h57, show gB s k - 55 = gB s k - 65 + 10 by omega]
        rw [hx] at HX
        rw [isD_no (show gB s k < 48 ∨ 57 < gB s k by omega)] at di
        have e1 : IntKind.u8.wrap (gB s k - 65) = gB s k - 65 := by simp [IntKind.wrap, IntKind.bits, IntKind.signed]; omega
        clear hx A T hlt
        generalize gB s k = x at *
        go_wp2_with (first
          | (go_at_call 66; refine (di _).out.mono ?_; rintro e w' ⟨rfl, rfl⟩)
          | (at_builtin; refine wpList_append_own _ rfl _ _ 102 rfl w.heap.size 3 i0 (.int .i64 0) 1 8 Tryd.underlying102 HI.out HZ0.out HZ1.out HZ2.out rfl (by decide) _ _ _ rfl (hown.out.alloc _) ⟨wr.heap.size, 0, none⟩ 2 2 [.int .i64 ((x - 65 + 10) / 10), .int .i64 ((x - 65 + 10) % 10)] rfl rfl ?c1 ?c2 ?c3 ?c4 ?c5 ?_))
        case c1 =>
          intro j u hj
          match j, hj with
          | 0, hj => simp at hj; subst hj; simp [Addr.add, go_sem]
          | 1, hj => simp at hj; subst hj; simp [Addr.add, go_sem]
        case c2 => intro u hu; simp at hu; rcases hu with rfl | rfl <;> rfl
        case c3 => unfold maxLen; omega
        case c4 => omega
        case c5 => simp; omega
        · intro v' w1 hown' hgrow _
          have R1 : Hid (w1.ownsRow w.heap.size 3 1 v' (ex ((bl s).take (k + 1))).length ((ex ((bl s).take (k + 1))).map (Value.int .i64))) := hide (by rw [HX.out]; simpa using hown')
          have R2 := hide (below_append (B.out.alloc hbs _) (hown.out.alloc _) hgrow)
          clear hown' hgrow
          go_wp2_with fail
          go_roundw
          case rel => exact ⟨k + 1, hlt1, by go_num, R1, R2⟩
          case measure => simp [intOf]; omega
    · obtain rfl : k = s.size := by omega
      rw [HL.out] at hown
      go_wp2_with fail
      go_ret
      exact ⟨_, rfl, hown.out, B.out⟩

/-- The digits of a row of the call's own. -/
theorem row_at {w : World} {B n cap g : Nat} {l : List Int} (h : w.ownsRow B 3 1 (.slice (some ⟨g, 0, none⟩) n cap) l.length (l.map (Value.int .i64))) (hn : n = l.length) (j : Nat) (hj : j < l.length) :
    w.cell? ⟨g, j, none⟩ = some (.int .i64 (l.getD j 0)) := by
  subst hn
  have := h.cellAt j (by omega)
  rw [this]
  simp [List.getD, hj]

set_option maxHeartbeats 4000000 in
set_option maxRecDepth 100000 in
theorem mod_any (s : ByteArray) (w : World) (h : Als s) (hm : s.size ≤ 200) : Calls Tryd.prog 59 #[.string s] w fun e w' => e = .returned (.int .i64 (moD 0 (ex (bl s)))) ∧ Below w.heap.size w w' := by
  have xp := hide (expand_any s w h hm)
  have DB := hide (ex_bd h.mem)
  have hl0 := ex_len (bl s)
  rw [bl_len] at hl0
  have hl : (ex (bl s)).length ≤ 400 := by omega
  clear h hl0
  generalize ex (bl s) = L at *
  have BD : Hid (∀ k, 0 ≤ moD 0 (L.take k) ∧ moD 0 (L.take k) ≤ 96) := hide (fun k => by
    have : ∀ (l : List Int) (r : Int), 0 ≤ r → r ≤ 96 → 0 ≤ moD r l ∧ moD r l ≤ 96 := by
      intro l
      induction l with
      | nil => intro r a b; exact ⟨a, b⟩
      | cons d l ih => intro r a b; exact ih _ (by unfold mst; omega) (by unfold mst; omega)
    exact this _ 0 (by omega) (by omega))
  have TK : Hid (∀ k, k < L.length → moD 0 (L.take (k + 1)) = (10 * moD 0 (L.take k) + L.getD k 0) % 97) := hide (fun k hk => by
    rw [List.take_succ_eq_append_getElem hk, moD_append]
    simp [moD, mst, List.getD, hk])
  have GD : Hid (∀ k, k < L.length → 0 ≤ L.getD k 0 ∧ L.getD k 0 ≤ 9) := hide (fun k hk => DB.out _ (by simp [List.getD, hk]))
  have HL : Hid (L.take L.length = L) := hide (List.take_of_length_le (Nat.le_refl _))
  clear DB
  go_enter Tryd.func59, Tryd.ntmps59
  go_wp2_with fail
  refine xp.out.mono ?_
  rintro e w1 ⟨v, rfl, hown, hb⟩
  have HB := hide hb
  clear hb
  rcases hown.2 with ⟨rfl, hn⟩ | ⟨g, cap, cur, rfl, _, _, hc1, hc2, _, _⟩
  · have e : L = [] := List.length_eq_zero_iff.1 hn
    subst e
    clear hown hn
    go_wp2_with fail
    go_loop [4, 5] (fun r i => r = .int .i64 0 ∧ i = .int .i64 0) (fun _ i => 0)
    case atStart => exact ⟨rfl, rfl⟩
    case round =>
      obtain ⟨rfl, rfl⟩ := hrel
      go_wp2_with fail
      go_ret
      exact ⟨rfl, HB.out⟩
  · have RA := hide (fun j hj => row_at hown rfl j hj)
    unfold maxLen at hc2
    clear hown
    go_wp2_with fail
    go_loop [4, 5] (fun r i => ∃ k : Nat, k ≤ L.length ∧ i = .int .i64 k ∧ r = .int .i64 (moD 0 (L.take k))) (fun _ i => L.length - (intOf i).toNat)
    case atStart => exact ⟨0, Nat.zero_le _, rfl, by simp [moD]⟩
    case round =>
      obtain ⟨k, hk, rfl, rfl⟩ := hrel
      obtain ⟨b1, b2⟩ := BD.out k
      by_cases hlt : k < L.length
      · have hlt1 : k + 1 ≤ L.length := hlt
        have c := RA.out k hlt
        obtain ⟨g1, g2⟩ := GD.out k hlt
        have HT := hide (TK.out k hlt)
        generalize moD 0 (L.take k) = r at *
        generalize L.getD k 0 = d at *
        go_wp2_with fail
        go_round
        case rel => exact ⟨k + 1, hlt1, by go_num, by rw [HT.out]⟩
        case measure => simp [intOf]; omega
      · obtain rfl : k = L.length := by omega
        rw [HL.out] at *
        go_wp2_with fail
        go_ret
        exact ⟨rfl, HB.out⟩

theorem luD_step (L : List Int) (k : Nat) (h : k < L.length) : luD (L.drop (L.length - (k + 1))) = lst (luD (L.drop (L.length - k))) (L.getD (L.length - 1 - k) 0) := by
  have hj : L.length - (k + 1) < L.length := by omega
  rw [List.drop_eq_getElem_cons hj, show L.length - (k + 1) + 1 = L.length - k by omega]
  show lst _ _ = _
  congr 1
  simp [List.getD, show L.length - 1 - k = L.length - (k + 1) by omega, hj]
set_option maxHeartbeats 4000000 in
set_option maxRecDepth 100000 in
theorem rluhn_any (s : ByteArray) (w : World) (h : Als s) (hm : s.size ≤ 200) : Calls Tryd.prog 57 #[.string s] w fun e w' => e = .returned (.int .i64 (luhn (bl s))) ∧ Below w.heap.size w w' := by
  have xp := hide (expand_any s w h hm)
  have hlu : luhn (bl s) = (10 - (luD (ex (bl s))).1 % 10) % 10 := by unfold luhn; rw [luA_ex h.mem]
  obtain ⟨U, hU⟩ : ∃ U, U = luhn (bl s) := ⟨_, rfl⟩
  rw [← hU] at hlu ⊢
  clear hU
  have DB := ex_bd h.mem
  have hl0 := ex_len (bl s)
  rw [bl_len] at hl0
  have hl : (ex (bl s)).length ≤ 400 := by omega
  clear h hl0
  generalize ex (bl s) = L at *
  have BD : Hid (∀ k, 0 ≤ (luD (L.drop k)).1 ∧ (luD (L.drop k)).1 ≤ 3600) := hide (fun k => by
    have := luD_bd (l := L.drop k) (fun d hd => DB d (List.mem_of_mem_drop hd))
    have := List.length_drop (i := k) (l := L)
    omega)
  have ST := hide (luD_step L)
  have PR : Hid (∀ k, k ≤ L.length → (luD (L.drop (L.length - k))).2 = decide (k % 2 = 0)) := hide (fun k hk => by rw [luD_par, List.length_drop, show L.length - (L.length - k) = k by omega])
  have GD : Hid (∀ k, k < L.length → 0 ≤ L.getD k 0 ∧ L.getD k 0 ≤ 9) := hide (fun k hk => DB _ (by simp [List.getD, hk]))
  have HL : Hid (luD (L.drop L.length) = (0, true)) := hide (by rw [List.drop_eq_nil_of_le (Nat.le_refl _)]; rfl)
  have HU := hide hlu
  clear DB hlu
  go_enter Tryd.func57, Tryd.ntmps57
  go_wp2_with fail
  refine xp.out.mono ?_
  rintro e w1 ⟨v, rfl, hown, hb⟩
  have HB := hide hb
  clear hb
  rcases hown.2 with ⟨rfl, hn⟩ | ⟨g, cap, cur, rfl, _, _, hc1, hc2, _, _⟩
  · have e : L = [] := List.length_eq_zero_iff.1 hn
    subst e
    have hu : U = 0 := by rw [HU.out]; rfl
    subst hu
    clear hown hn
    go_wp2_with fail
    go_loop [4, 5] (fun r i => r = .int .i64 0 ∧ i = .int .i64 0) (fun _ i => 0)
    case atStart => exact ⟨rfl, rfl⟩
    case round =>
      obtain ⟨rfl, rfl⟩ := hrel
      go_wp2_with fail
      go_ret
      exact ⟨rfl, HB.out⟩
  · have RA := hide (fun j hj => row_at hown rfl j hj)
    unfold maxLen at hc2
    clear hown
    go_wp2_with fail
    go_loop [4, 5] (fun r i => ∃ k : Nat, k ≤ L.length ∧ i = .int .i64 k ∧ r = .int .i64 (luD (L.drop (L.length - k))).1) (fun _ i => L.length - (intOf i).toNat)
    case atStart => exact ⟨0, Nat.zero_le _, rfl, by rw [Nat.sub_zero, HL.out]⟩
    case round =>
      obtain ⟨k, hk, rfl, rfl⟩ := hrel
      obtain ⟨b1, b2⟩ := BD.out (L.length - k)
      by_cases hlt : k < L.length
      · have hlt1 : k + 1 ≤ L.length := hlt
        have c := RA.out (L.length - 1 - k) (by omega)
        obtain ⟨g1, g2⟩ := GD.out (L.length - 1 - k) (by omega)
        have T := ST.out k hlt
        have P := PR.out k hk
        by_cases h2 : k % 2 = 0
        · have h2i : (k : Int) % 2 = 0 := by omega
          rw [decide_eq_true h2] at P
          have HT : Hid ((luD (L.drop (L.length - (k + 1)))).1 = (luD (L.drop (L.length - k))).1 + 2 * L.getD (L.length - 1 - k) 0 / 10 + 2 * L.getD (L.length - 1 - k) 0 % 10) := hide (by rw [T]; simp only [lst, P, dsum, if_true]; rw [Int.add_assoc])
          clear T P h2
          generalize (luD (L.drop (L.length - k))).1 = S at *
          generalize L.getD (L.length - 1 - k) 0 = d at *
          go_wp2_with fail
          go_round
          case rel => exact ⟨k + 1, hlt1, by go_num, by rw [HT.out]⟩
          case measure => simp [intOf]; omega
        · have h2i : ¬ (k : Int) % 2 = 0 := by omega
          rw [decide_eq_false h2] at P
          have HT : Hid ((luD (L.drop (L.length - (k + 1)))).1 = (luD (L.drop (L.length - k))).1 + L.getD (L.length - 1 - k) 0 / 10 + L.getD (L.length - 1 - k) 0 % 10) := hide (by rw [T]; simp only [lst, P, dsum]; rw [if_neg (by simp), Int.add_assoc])
          clear T P h2
          generalize (luD (L.drop (L.length - k))).1 = S at *
          generalize L.getD (L.length - 1 - k) 0 = d at *
          go_wp2_with fail
          go_round
          case rel => exact ⟨k + 1, hlt1, by go_num, by rw [HT.out]⟩
          case measure => simp [intOf]; omega
      · obtain rfl : k = L.length := by omega
        have hu := HU.out.symm
        rw [Nat.sub_self, List.drop_zero] at *
        generalize (luD L).1 = S at *
        go_wp2_with fail
        go_ret
        exact ⟨rfl, HB.out⟩
end Go.Proofs.YtjjaemobgfconaaDoor
