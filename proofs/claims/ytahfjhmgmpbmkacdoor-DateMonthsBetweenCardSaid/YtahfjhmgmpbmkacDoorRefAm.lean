/-
  Contract of the reference's AddMonths at this translation, at a day number.
-/
import Derived.Test.YtahfjhmgmpbmkacDoorDateCivilWalk
import Derived.Test.YtahfjhmgmpbmkacDoorRefFrom
namespace Go.Proofs.YtahfjhmgmpbmkacDoor
open Go.RowKit
set_option linter.unusedVariables false

theorem ram_far (n months : Int) (w : World) (h : 3000 < months ∨ months < -3000) :
    Calls Tryd.prog 30 #[.int .i64 n, .int .i64 months] w fun e w' => e = .returned (.tuple #[.int .i64 0, .bool false]) ∧ w = w' := by
  by_cases h1 : 3000 < months
  · clear h
    go_enter Tryd.func30, Tryd.ntmps30
    go_wp2_with fail
    go_ret2
    exact ⟨rfl, rfl⟩
  · have h2 : months < -3000 := by omega
    have h3 : decide (3000 < months) = false := decide_eq_false h1
    clear h
    go_enter Tryd.func30, Tryd.ntmps30
    go_wp2_with fail
    go_ret2
    exact ⟨rfl, rfl⟩

theorem rlen_q (y m : Int) (w : World) : Calls Tryd.prog 27 #[.int .i64 y, .int .i64 m] w fun e w' => e = .returned (.int .i64 (dim y m)) ∧ w' = w :=
  (rlen_any y m w).mono fun _ _ h => ⟨h.1, h.2.symm⟩

set_option maxRecDepth 20000 in
theorem ram_near (n months y : Int) (k : Nat) (w : World) (h : InMonth n y k) (m1 : -3000 ≤ months) (m2 : months ≤ 3000) :
    Calls Tryd.prog 30 #[.int .i64 n, .int .i64 months] w fun e w' => e = .returned (.tuple #[.int .i64 (if 0 ≤ MN y k + months ∧ MN y k + months ≤ 2399 then amD (MN y k + months) (n - NY y - cum y k + 1) else 0), .bool (decide (0 ≤ MN y k + months ∧ MN y k + months ≤ 2399))]) ∧ Below w.heap.size w w' := by
  have rto := fun W => hide (rto_in n y k W h)
  have ln := fun W y m => hide (rlen_any y m W)
  have d1 : 1 ≤ n - NY y - cum y k + 1 := by have := h.c1; omega
  have d2 : n - NY y - cum y k + 1 ≤ 31 := by have := h.c2; have := (dim_bd y ((k : Int) + 1)).2; simp only [cum] at *; omega
  obtain ⟨b1, b2⟩ := mn_bd y k h.y1 h.y2 h.k12
  have s1 : 2000 + MN y k / 12 = y := by unfold MN; have := h.k12; omega
  have s2 : MN y k % 12 + 1 = (k : Int) + 1 := by unfold MN; have := h.k12; omega
  clear h
  generalize n - NY y - cum y k + 1 = D at *
  rw [← s1, ← s2] at rto
  clear s1 s2
  generalize MN y k = T0 at *
  obtain ⟨t, ht⟩ : ∃ t, t = T0 + months := ⟨_, rfl⟩
  obtain rfl : months = t - T0 := by omega
  rw [← ht]
  clear ht
  obtain ⟨V, hV⟩ : ∃ V, V = (if 0 ≤ t ∧ t ≤ 2399 then amD t D else 0) := ⟨_, rfl⟩
  obtain ⟨B, hB⟩ : ∃ B, B = decide (0 ≤ t ∧ t ≤ 2399) := ⟨_, rfl⟩
  rw [← hV, ← hB]
  have HV := hide hV
  have HBo := hide hB
  clear hV hB
  go_enter Tryd.func30, Tryd.ntmps30
  go_wp2_with fail
  refine (rto _).out.mono ?_
  rintro e w2 ⟨rfl, hb⟩
  have HB := hide hb
  have HG := fun o => hide (hb.alloc hb.size o)
  clear hb
  go_wp2_with fail
  go_loopw [1] (fun m wr => ∃ T : Int, m = .int .i64 (t - T) ∧ T0 ≤ T ∧ (T ≤ t ∨ T = T0) ∧ wr = w2.alloc (.cells #[.int .i64 (2000 + T / 12), .int .i64 (T % 12 + 1), .int .i64 D] 32)) (fun m _ => (intOf m).toNat)
  case atStart => exact ⟨T0, rfl, by omega, .inr rfl, rfl⟩
  case round =>
    obtain ⟨T, rfl, q1, q2, rfl⟩ := hrel
    obtain ⟨Y, hY⟩ : ∃ Y, Y = 2000 + T / 12 := ⟨_, rfl⟩
    obtain ⟨M, hM⟩ : ∃ M, M = T % 12 + 1 := ⟨_, rfl⟩
    rw [← hY, ← hM]
    have yb : 1700 ≤ Y ∧ Y ≤ 2500 := by omega
    have mb : 1 ≤ M ∧ M ≤ 12 := by omega
    by_cases hlt : T < t
    · have HY := hide hY
      have HM := hide hM
      have hpos : 0 < t - T := by omega
      have hT1 : T + 1 ≤ t := hlt
      clear hY hM hlt
      by_cases h12 : M = 12
      · subst h12
        have eY : 2000 + (T + 1) / 12 = Y + 1 := by have := HY.out; have := HM.out; omega
        have eM : (T + 1) % 12 + 1 = 1 := by have := HM.out; omega
        have EY := hide eY
        have EM := hide eM
        clear eY eM
        go_wp2_with fail
        go_roundw
        case rel => exact ⟨T + 1, by go_num, by omega, .inl hT1, by rw [EY.out, EM.out]⟩
        case measure => simp [intOf]; omega
      · have eY : 2000 + (T + 1) / 12 = Y := by have := HY.out; have := HM.out; omega
        have eM : (T + 1) % 12 + 1 = M + 1 := by have := HM.out; omega
        have EY := hide eY
        have EM := hide eM
        have hne : (M + 1 == 13) = false := by rw [beq_eq_false_iff_ne]; omega
        clear eY eM
        go_wp2_with fail
        go_roundw
        case rel => exact ⟨T + 1, by go_num, by omega, .inl hT1, by rw [EY.out, EM.out]⟩
        case measure => simp [intOf]; omega
    · have hnp : t - T ≤ 0 := by omega
      have HY := hide hY
      have HM := hide hM
      have e0 : -3000 ≤ t - T := by omega
      have hT5 : T ≤ 5400 := by omega
      have ht1 : t ≤ T := by omega
      clear hY hM yb mb hlt q1 q2
      go_wp2_with fail
      go_loopw [1] (fun m wr => ∃ S : Int, m = .int .i64 (t - S) ∧ t ≤ S ∧ S ≤ 5400 ∧ wr = w2.alloc (.cells #[.int .i64 (2000 + S / 12), .int .i64 (S % 12 + 1), .int .i64 D] 32)) (fun m _ => (0 - intOf m).toNat)
      case atStart => exact ⟨T, rfl, ht1, hT5, by rw [← HY.out, ← HM.out]⟩
      case round =>
        obtain ⟨S, rfl, q1, q2, rfl⟩ := hrel
        clear HY HM
        obtain ⟨Z, hY⟩ : ∃ Z, Z = 2000 + S / 12 := ⟨_, rfl⟩
        obtain ⟨N, hM⟩ : ∃ N, N = S % 12 + 1 := ⟨_, rfl⟩
        rw [← hY, ← hM]
        have zb : 1700 ≤ Z ∧ Z ≤ 2500 := by omega
        have nb : 1 ≤ N ∧ N ≤ 12 := by omega
        by_cases hlt : t < S
        · have HY := hide hY
          have HM := hide hM
          have hneg : t - S < 0 := by omega
          have hT1 : t ≤ S - 1 := by omega
          clear hY hM hlt
          by_cases h1 : N = 1
          · subst h1
            have eY : 2000 + (S - 1) / 12 = Z - 1 := by have := HY.out; have := HM.out; omega
            have eM : (S - 1) % 12 + 1 = 12 := by have := HM.out; omega
            have EY := hide eY
            have EM := hide eM
            clear eY eM
            go_wp2_with fail
            go_roundw
            case rel => exact ⟨S - 1, by go_num, hT1, by omega, by rw [EY.out, EM.out]⟩
            case measure => simp [intOf]; omega
          · have eY : 2000 + (S - 1) / 12 = Z := by have := HY.out; have := HM.out; omega
            have eM : (S - 1) % 12 + 1 = N - 1 := by have := HM.out; omega
            have EY := hide eY
            have EM := hide eM
            have hne : (N - 1 == 0) = false := by rw [beq_eq_false_iff_ne]; omega
            clear eY eM
            go_wp2_with fail
            go_roundw
            case rel => exact ⟨S - 1, by go_num, hT1, by omega, by rw [EY.out, EM.out]⟩
            case measure => simp [intOf]; omega
        · obtain rfl : S = t := by omega
          have HGw := HG (.cells #[.int .i64 Z, .int .i64 N, .int .i64 D] 32)
          clear HG
          by_cases hin : 0 ≤ S ∧ S ≤ 2399
          · have dge : 1 ≤ dim Z N := by
              obtain ⟨j, hj⟩ : ∃ j : Nat, N = (j : Int) + 1 := ⟨(N - 1).toNat, by omega⟩
              rw [hj]; exact dim_ge1 Z j (by omega) (by omega) (by omega)
            have dle := (dim_bd Z N).2
            have rf : ∀ W, Hid (Calls Tryd.prog 23 #[.agg #[.int .i64 Z, .int .i64 N, .int .i64 (min D (dim Z N))]] W fun e w' => e = .returned (.int .i64 (amD S D)) ∧ Below W.heap.size W w') := fun W => by
              obtain ⟨j, hj⟩ : ∃ j : Nat, N = (j : Int) + 1 := ⟨(N - 1).toNat, by omega⟩
              have := rfrom_in Z (min D (dim Z N)) j W (by omega) (by omega) (by omega) (by omega) (by omega)
              have e : NY Z + cum Z j + min D (dim Z N) - 1 = amD S D := by
                unfold amD num
                rw [← hY, ← hM, hj, show ((j : Int) + 1 - 1).toNat = j by omega]
                omega
              rw [e, ← hj] at this
              exact hide this
            have HI := hide hin
            have hV : amD S D = V := by rw [HV.out, if_pos hin]
            have hBt : B = true := by rw [HBo.out, decide_eq_true hin]
            subst hBt
            clear hY hM hin HBo
            have hne : (dim Z N == 0) = false := by rw [beq_eq_false_iff_ne]; omega
            rw [hV] at rf
            clear hV HV HI
            obtain ⟨L, hL⟩ : ∃ L, dim Z N = L := ⟨_, rfl⟩
            have HL := hide hL
            rw [hL] at rf hne dge dle
            clear hL
            go_wp2_with fail
            refine (ln _ _ _).out.mono ?_
            rintro e w' ⟨rfl, rfl⟩
            rw [HL.out]
            go_wp2_with fail
            obtain ⟨W, hW⟩ : ∃ W, W = w2.alloc (.cells #[.int .i64 Z, .int .i64 N, .int .i64 D] 32) := ⟨_, rfl⟩
            have f0 : W.cell? ⟨w2.heap.size, 0, none⟩ = some (.int .i64 Z) := by rw [hW]; simp [go_sem]
            have f1 : W.cell? ⟨w2.heap.size, 1, none⟩ = some (.int .i64 N) := by rw [hW]; simp [go_sem]
            have f2 : W.cell? ⟨w2.heap.size, 2, none⟩ = some (.int .i64 D) := by rw [hW]; simp [go_sem]
            have g2 : W.frozen? ⟨w2.heap.size, 2, none⟩ = false := by rw [hW]; simp [go_sem]
            rw [← hW] at HGw ⊢
            clear hW
            have hbl := HB.out.size
            generalize w2.heap.size = c at *
            have BW' : Hid (Below w.heap.size w W.drew) := hide HGw.out.drew
            have f0' : W.drew.cell? ⟨c, 0, none⟩ = some (.int .i64 Z) := f0
            have f1' : W.drew.cell? ⟨c, 1, none⟩ = some (.int .i64 N) := f1
            have g2' : W.drew.frozen? ⟨c, 2, none⟩ = false := g2
            have f2' : W.drew.cell? ⟨c, 2, none⟩ = some (.int .i64 D) := f2
            go_still_tail 9, (by kernel_rfl)
            still_call (rlen_q Z N W.drew)
            repeat still_step
            refine wpStill_nil ?_
            clear f0 f1 f2 g2 HGw
            rw [HL.out]
            change wpList _ _ _ _ _ W.drew
            generalize W.drew = W2 at *
            go_wp2_with fail
            refine (rf _).out.mono ?_
            rintro e w5 ⟨rfl, hb⟩
            have HB5 := hide ((BW'.out.setCell hbl _).trans (hb.mono (BW'.out.setCell hbl _).size))
            clear hb
            go_wp2_with fail
            go_ret2
            exact ⟨rfl, HB5.out⟩
          · have e : dim Z N = 0 := by unfold dim; rw [if_pos (by omega)]
            have hV0 : V = 0 := by rw [HV.out, if_neg hin]
            have hB0 : B = false := by rw [HBo.out, decide_eq_false hin]
            clear hY hM hin HV HBo
            subst hV0 hB0
            go_wp2_with fail
            refine (ln _ _ _).out.mono ?_
            rintro e w' ⟨rfl, rfl⟩
            rw [e]
            go_wp2_with fail
            go_ret2
            exact ⟨rfl, HGw.out⟩
end Go.Proofs.YtahfjhmgmpbmkacDoor
