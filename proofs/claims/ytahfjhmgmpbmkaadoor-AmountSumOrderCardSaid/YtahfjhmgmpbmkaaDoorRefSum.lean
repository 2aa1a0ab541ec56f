/-
  Contract of the reference's Sum at this translation, and of both Sums at no numbers. Conditions: the slice's cells hold its numbers; it has at most 2^44 elements.
-/
import Derived.Test.YtahfjhmgmpbmkaaDoorAmountAddWalk
namespace Go.Proofs.YtahfjhmgmpbmkaaDoor
open Go.RowKit

/-- What a walk is told of a slice of integers that came in: it is nil, or its cells hold the numbers zs, of which the first len are its elements. -/
def IsRow (k : IntKind) (w : World) (a : Option Addr) (len cap : Nat) (zs : List Int) : Prop :=
  (a = none ∧ len = 0 ∧ cap = 0 ∧ zs = []) ∨
  ∃ x, a = some x ∧ len ≤ cap ∧ cap ≤ maxLen ∧ zs.length = cap ∧ (∀ i, i < zs.length → w.cell? (x.add i) = some (.int k (zs.getD i 0))) ∧ ∀ n ∈ zs, (Lit.int k n).wf = true

set_option maxRecDepth 20000 in
theorem sum_nil (a : Option Addr) (cap : Nat) (w : World) : Calls Tryd.prog 20 #[.slice a 0 cap] w fun e w' => e = .returned (.tuple #[.int .i64 (sumV []), .int .i64 (sumE [])]) ∧ w = w' := by
  have b := fun w => hide (bounded_yes 0 w (by decide) (by decide))
  go_enter Tryd.func20, Tryd.ntmps20
  go_wp2_with fail
  go_loop [4, 5, 12] (fun h l i => h = .int .u64 0 ∧ l = .int .u64 0 ∧ i = .int .i64 0) (fun _ _ _ => 0)
  case atStart => exact ⟨rfl, rfl, rfl⟩
  case round =>
    obtain ⟨rfl, rfl, rfl⟩ := hrel
    go_wp2_with fail
    refine (b _).out.mono ?_
    rintro e w' ⟨rfl, rfl⟩
    go_wp2_with fail
    go_ret2
    exact ⟨rfl, rfl⟩
set_option maxRecDepth 20000 in
theorem refsum_nil (a : Option Addr) (cap : Nat) (w : World) : Calls Tryd.prog 21 #[.slice a 0 cap] w fun e w' => e = .returned (.tuple #[.int .i64 (sumV []), .int .i64 (sumE [])]) ∧ w = w' := by
  go_enter Tryd.func21, Tryd.ntmps21
  go_wp2_with fail
  go_loop [4] (fun i => i = .int .i64 0) (fun _ => 0)
  case atStart => rfl
  case round =>
    obtain rfl := hrel
    go_wp2_with fail
    go_loop [5, 6, 7] (fun h l i => h = .int .i64 0 ∧ l = .int .i64 0 ∧ i = .int .i64 0) (fun _ _ _ => 0)
    case atStart => exact ⟨rfl, rfl, rfl⟩
    case round =>
      obtain ⟨rfl, rfl, rfl⟩ := hrel
      go_wp2_with fail
      go_ret2
      exact ⟨rfl, rfl⟩

theorem refsum_any (b off len cap : Nat) (zs : List Int) (w : World) (hz : zs.length = len) (hlen : len ≤ 17592186044416)
    (hc : ∀ j, j < len → w.cell? ⟨b, off + j, none⟩ = some (.int .i64 (zs.getD j 0))) :
    Calls Tryd.prog 21 #[.slice (some ⟨b, off, none⟩) len cap] w fun e w' => e = .returned (.tuple #[.int .i64 (sumV zs), .int .i64 (sumE zs)]) ∧ w = w' := by
  subst hz
  go_enter Tryd.func21, Tryd.ntmps21
  go_wp2_with fail
  go_loop [4] (fun i => ∃ k : Nat, k ≤ zs.length ∧ i = .int .i64 k ∧ Hid (∀ j, j < k → okA (zs.getD j 0))) (fun i => zs.length - (intOf i).toNat)
  case atStart => exact ⟨0, Nat.zero_le _, rfl, hide (fun _ h => by omega)⟩
  case round =>
    obtain ⟨k, hk, rfl, HV⟩ := hrel
    by_cases hlt : k < zs.length
    · have hcell := hc k hlt
      obtain ⟨x, hX⟩ : ∃ x, x = zs.getD k 0 := ⟨_, rfl⟩
      rw [← hX] at hcell
      have HX := hide hX
      have HC := hide hc
      clear hX hc
      have c := fun w => hide (refvalid_any x w)
      by_cases hx : okA x
      · have hb := okB_yes hx
        have HO := hide hx
        clear hx
        go_wp2_with fail
        refine (c _).out.mono ?_
        rintro e w' ⟨rfl, rfl⟩
        go_wp2_with fail
        go_round
        case rel =>
          exact ⟨k + 1, by omega, by go_num, hide (fun j hj => by
            rcases Nat.lt_or_ge j k with h | h
            · exact HV.out j h
            · obtain rfl : j = k := by omega
              rw [← HX.out]; exact HO.out)⟩
        case measure => simp [intOf]; omega
      · have hb := okB_no hx
        have HN := hide hx
        clear hx
        go_wp2_with fail
        refine (c _).out.mono ?_
        rintro e w' ⟨rfl, rfl⟩
        go_wp2_with fail
        go_ret2
        have hmem : zs.getD k 0 ∈ zs := by rw [List.getD_eq_getElem?_getD, List.getElem?_eq_getElem hlt]; simp
        have hb := sumE_bad zs _ hmem (by rw [← HX.out]; exact HN.out)
        exact ⟨ret_ii (sumV_ne zs (by omega)).symm hb.symm, rfl⟩
    · have hk' : k = zs.length := by omega
      clear hlt
      subst hk'
      have hall : ∀ x ∈ zs, okA x := fun x hx => by
        obtain ⟨j, hj, rfl⟩ := List.getElem_of_mem hx
        have := HV.out j hj
        rwa [List.getD_eq_getElem?_getD, List.getElem?_eq_getElem hj] at this
      have HA := hide hall
      clear hall
      go_wp2_with fail
      go_loop [5, 6, 7] (fun hi lo i => ∃ (k : Nat) (h l : Int), k ≤ zs.length ∧ i = .int .i64 k ∧ hi = .int .i64 h ∧ lo = .int .i64 l ∧ 0 ≤ l ∧ l < 1000000000000000 ∧ Hid (h * 1000000000000000 + l = tot (zs.take k))) (fun _ _ i => zs.length - (intOf i).toNat)
      case atStart => exact ⟨0, 0, 0, Nat.zero_le _, rfl, rfl, rfl, by decide, by decide, hide rfl⟩
      case round =>
        obtain ⟨k, h, l, hk, rfl, rfl, rfl, l1, l2, HT⟩ := hrel
        by_cases hlt : k < zs.length
        · have hcell := hc k hlt
          have hx := HV.out k hlt
          have htk := tot_take zs k hlt
          obtain ⟨x, hX⟩ : ∃ x, x = zs.getD k 0 := ⟨_, rfl⟩
          rw [← hX] at hcell hx htk
          have htl := tot_le (zs.take (k + 1)) (fun y hy => HA.out y (List.mem_of_mem_take hy))
          have hlt' : (zs.take (k + 1)).length ≤ zs.length := by simp; omega
          obtain ⟨T, hT⟩ : ∃ T, T = tot (zs.take (k + 1)) := ⟨_, rfl⟩
          rw [← hT] at htk htl
          have hsum : h * 1000000000000000 + (l + x) = T := by rw [htk, ← HT.out]; omega
          obtain ⟨x1, x2⟩ := hx
          have b1 : -17592186044418 ≤ h := by omega
          have b2 : h ≤ 17592186044418 := by omega
          have t1 : -17592186044416000000000000000 ≤ T := by omega
          have t2 : T ≤ 17592186044416000000000000000 := by omega
          have HC := hide hc
          have HTT := hide hT
          have HS := hide hsum
          clear hc hX htk htl hlt' hT hsum
          go_wp2_with fail
          go_loop [5, 6] (fun hi lo => ∃ h l : Int, hi = .int .i64 h ∧ lo = .int .i64 l ∧ -1000000000000000 ≤ l ∧ l < 2000000000000000 ∧ -17592186044420 ≤ h ∧ h ≤ 17592186044420 ∧ Hid (h * 1000000000000000 + l = T)) (fun _ lo => (intOf lo).toNat)
          case atStart => exact ⟨_, _, rfl, rfl, by omega, by omega, by omega, by omega, HS⟩
          case round =>
            clear b1 b2 l1 l2 HS x1 x2 HT
            obtain ⟨h, l, rfl, rfl, l1, l2, b1, b2, HS⟩ := hrel
            by_cases hl : 1000000000000000 ≤ l
            · have HS2 := hide (show (h + 1) * 1000000000000000 + (l - 1000000000000000) = T by have := HS.out; omega)
              have hb : h + 1 ≤ 17592186044420 := by have := HS.out; omega
              go_wp2_with fail
              go_round
              case rel => exact ⟨_, _, rfl, rfl, by omega, by omega, by omega, hb, HS2⟩
              case measure => simp [intOf]; omega
            · go_wp2_with fail
              go_loop [5, 6] (fun hi lo => ∃ h l : Int, hi = .int .i64 h ∧ lo = .int .i64 l ∧ -1000000000000000 ≤ l ∧ l < 1000000000000000 ∧ -17592186044420 ≤ h ∧ h ≤ 17592186044420 ∧ Hid (h * 1000000000000000 + l = T)) (fun _ lo => (-(intOf lo)).toNat)
              case atStart => exact ⟨_, _, rfl, rfl, by omega, by omega, by omega, by omega, HS⟩
              case round =>
                clear b1 b2 l1 l2 HS hl
                obtain ⟨h, l, rfl, rfl, l1, l2, b1, b2, HS⟩ := hrel
                by_cases hl : l < 0
                · have HS2 := hide (show (h - 1) * 1000000000000000 + (l + 1000000000000000) = T by have := HS.out; omega)
                  have hb : -17592186044420 ≤ h - 1 := by have := HS.out; omega
                  go_wp2_with fail
                  go_round
                  case rel => exact ⟨_, _, rfl, rfl, by omega, by omega, hb, by omega, HS2⟩
                  case measure => simp [intOf]; omega
                · go_wp2_with fail
                  go_round
                  case rel => exact ⟨k + 1, h, l, by omega, by go_num, rfl, rfl, by omega, by omega, hide (by rw [HS.out, HTT.out])⟩
                  case measure => simp [intOf]; omega
        · have hk' : k = zs.length := by omega
          clear hlt
          subst hk'
          rw [List.take_length] at HT
          by_cases ho : okA (tot zs)
          · have hE := sumE_ok zs HA.out ho
            have hV := sumV_ok zs hE
            have hh : h ≤ 1 := by have := HT.out; unfold okA at ho; omega
            have hh2 : -1 ≤ h := by have := HT.out; unfold okA at ho; omega
            have F : Hid (Ending.returned (.tuple #[.int .i64 (h * 1000000000000000 + l), .int .i64 0]) = Ending.returned (.tuple #[.int .i64 (sumV zs), .int .i64 (sumE zs)])) := hide (ret_ii (by rw [hV, HT.out]) hE.symm)
            by_cases h1 : h = 1
            · have hl0 : l = 0 := by have := HT.out; unfold okA at ho; omega
              subst h1
              subst hl0
              clear ho hE hV
              go_wp2_with fail
              go_ret2
              exact ⟨F.out, rfl⟩
            · have h1' : (h == 1) = false := by simpa using h1
              have h1'' : h ≤ 0 := by omega
              clear ho hE hV h1
              go_wp2_with fail
              go_ret2
              exact ⟨F.out, rfl⟩
          · have hE := sumE_over zs HA.out ho
            have hV := sumV_ne zs (by omega)
            have F : Hid (Ending.returned (.tuple #[.int .i64 0, .int .i64 12]) = Ending.returned (.tuple #[.int .i64 (sumV zs), .int .i64 (sumE zs)])) := hide (ret_ii hV.symm hE.symm)
            have ho' : ¬ (-1000000000000000 ≤ h * 1000000000000000 + l ∧ h * 1000000000000000 + l ≤ 1000000000000000) := by rw [HT.out]; exact ho
            clear ho hE hV
            by_cases h2 : 1 < h
            · clear ho'
              go_wp2_with fail
              go_ret2
              exact ⟨F.out, rfl⟩
            · by_cases h1 : h = 1
              · have hl0 : 0 < l := by omega
                subst h1
                clear ho'
                go_wp2_with fail
                go_ret2
                exact ⟨F.out, rfl⟩
              · have h1' : (h == 1) = false := by simpa using h1
                have h3 : h < -1 := by omega
                clear ho' h1
                go_wp2_with fail
                go_ret2
                exact ⟨F.out, rfl⟩
end Go.Proofs.YtahfjhmgmpbmkaaDoor
