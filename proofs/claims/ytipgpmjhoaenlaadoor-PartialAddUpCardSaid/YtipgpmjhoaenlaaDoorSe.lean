/-
  Contract of sort.Search at a closure that answers a monotone question, at this translation.
-/
import Derived.Test.YtipgpmjhoaenlaaDoorP7
namespace Go.Proofs.YtipgpmjhoaenlaaDoor
open Go.RowKit
set_option linter.unusedVariables false
set_option linter.unusedSimpArgs false

/-- What a search answers. -/
structure Fnd (B : Int → Bool) (M s : Int) : Prop where
  lo : 0 ≤ s
  hi : s ≤ M
  no : ∀ i, 0 ≤ i → i < s → B i = false
  yes : s < M → B s = true
def SomeFnd (B : Int → Bool) (M : Int) (w : World) (e : Ending) (w' : World) : Prop := ∃ s : Int, Fnd B M s ∧ e = .returned (.int .i64 s) ∧ Below w.heap.size w w'
set_option maxHeartbeats 4000000 in
theorem search_any (B : Int → Bool) (M : Int) (b c : Nat) (w : World) (m0 : 0 ≤ M) (m1 : M ≤ 1000000000000000) (mono : ∀ i j, 0 ≤ i → i ≤ j → B i = true → B j = true)
    (HC : ∀ i wx, 0 ≤ i → i < M → Below w.heap.size w wx → Calls Tryd.prog 35 #[.int .i64 i, .pointer (some ⟨b, 0, none⟩), .pointer (some ⟨c, 0, none⟩)] wx fun e w' => e = .returned (.bool (B i)) ∧ Below wx.heap.size wx w') :
    Calls Tryd.prog 36 #[.int .i64 M, .func (.func 35) #[] #[.pointer (some ⟨b, 0, none⟩), .pointer (some ⟨c, 0, none⟩)]] w (SomeFnd B M w) := by
  have HC := fun i wx a b c => hide (HC i wx a b c)
  have MO := hide mono
  clear mono
  go_enter Tryd.func36, Tryd.ntmps36
  go_wp2_with fail
  go_loopw [5, 6] (fun s5 s6 wr => ∃ i j : Int, s5 = .int .i64 i ∧ s6 = .int .i64 j ∧ 0 ≤ i ∧ i ≤ j ∧ j ≤ M ∧ Hid (∀ x, 0 ≤ x → x < i → B x = false) ∧ Hid (j < M → B j = true) ∧ Hid (Below w.heap.size w wr)) (fun s5 s6 _ => (intOf s6 - intOf s5).toNat)
  case atStart => exact ⟨0, M, rfl, rfl, by omega, m0, by omega, hide (fun x h1 h2 => by omega), hide (fun h => by omega), hide (Below.refl _ _)⟩
  case round =>
    obtain ⟨i, j, rfl, rfl, i0, ij, jm, NO, YES, HR⟩ := hrel
    by_cases h : i < j
    · have q := HC ((i + j) / 2) wr (by omega) (by omega) HR.out
      have h1 : i ≤ (i + j) / 2 := by omega
      have h2 : (i + j) / 2 < j := by omega
      cases hb : B ((i + j) / 2)
      · rw [hb] at q
        have NO := hide (show ∀ x, 0 ≤ x → x < (i + j) / 2 + 1 → B x = false from fun x a c => by
          cases hx : B x with
          | false => rfl
          | true => have := MO.out x ((i + j) / 2) a (by omega) hx; rw [hb] at this; cases this)
        clear hb
        go_wp2_with fail
        refine q.out.mono ?_
        rintro e wx ⟨rfl, hb⟩
        have HR := hide (HR.out.trans (hb.mono HR.out.size))
        clear hb q
        go_wp2_with fail
        go_roundw
        case rel => exact ⟨(i + j) / 2 + 1, j, by go_simp, rfl, by omega, by omega, jm, NO, YES, HR⟩
        case measure => simp [intOf]; omega
      · rw [hb] at q
        have YES := hide (show (i + j) / 2 < M → B ((i + j) / 2) = true from fun _ => hb)
        clear hb
        go_wp2_with fail
        refine q.out.mono ?_
        rintro e wx ⟨rfl, hb⟩
        have HR := hide (HR.out.trans (hb.mono HR.out.size))
        clear hb q
        go_wp2_with fail
        go_roundw
        case rel => exact ⟨i, (i + j) / 2, rfl, rfl, i0, h1, by omega, NO, YES, HR⟩
        case measure => simp [intOf]; omega
    · have e : i = j := by omega
      subst e
      go_wp2_with fail
      go_ret
      exact ⟨i, ⟨i0, jm, NO.out, YES.out⟩, rfl, HR.out⟩
end Go.Proofs.YtipgpmjhoaenlaaDoor
