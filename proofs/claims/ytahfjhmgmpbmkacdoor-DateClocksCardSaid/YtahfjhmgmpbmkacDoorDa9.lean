/-
  Contracts of the closure of date.fieldsOf and of Parse at this translation.
-/
import Derived.Test.YtahfjhmgmpbmkacDoorDa8
import Derived.Laws.Strings2
import Derived.Laws.IdiomStrings
namespace Go.Proofs.YtahfjhmgmpbmkacDoor
open Go.RowKit
set_option linter.unusedVariables false

/-- The number that k bytes from a on write. -/
def nv (s : ByteArray) (a : Nat) : Nat → Int
  | 0 => 0
  | k + 1 => nv s a k * 10 + (gB s (a + k) - 48)

theorem gB_extract (s : ByteArray) (a b k : Nat) (hb : b ≤ s.size) (hk : k < b - a) : gB (s.extract a b) k = gB s (a + k) := by
  obtain ⟨⟨l⟩⟩ := s
  have hb' : b ≤ l.length := hb
  simp [gB, ByteArray.extract_mk, List.getD, List.getElem?_drop, hk]

theorem sl_eq (s : ByteArray) (a b : Nat) (hab : a ≤ b) (hb : b ≤ s.size) (w : World) :
    (Instr.slice 9 (.string s) (some (.int .i64 (a : Int))) (some (.int .i64 (b : Int))) none).run Tryd.prog w = .ok (.string (s.extract a b)) w :=
  Go.run_slice_string w 9 s .i64 .i64 a b Tryd.underlying9 (by omega) (by omega) (by omega)

theorem row_cell (W : World) (T : ByteArray) (cap k : Nat) (hk : k < T.size) :
    (W.alloc (.cells (Go.bytesRow T cap) 5 ((Go.bytesRow T cap).size, (Go.bytesRow T cap).size + 1))).cell? ⟨W.heap.size, k, none⟩ = some (.int .u8 (gB T k)) := by
  rw [World.cell?_alloc_mark]
  rw [Go.bytesRow_at T cap k hk]
  obtain ⟨⟨l⟩⟩ := T
  have hk' : k < l.length := hk
  simp [gB, List.getD, List.getElem?_eq_getElem hk']

theorem nv_bd (s : ByteArray) (a k : Nat) (hk : k ≤ 4) (hd : ∀ j, j < k → 48 ≤ gB s (a + j) ∧ gB s (a + j) ≤ 57) : 0 ≤ nv s a k ∧ nv s a k ≤ 9999 := by
  have h0 : 1 ≤ k → _ := fun h => hd 0 (by omega)
  have h1 : 2 ≤ k → _ := fun h => hd 1 (by omega)
  have h2 : 3 ≤ k → _ := fun h => hd 2 (by omega)
  have h3 : 4 ≤ k → _ := fun h => hd 3 (by omega)
  have : k = 0 ∨ k = 1 ∨ k = 2 ∨ k = 3 ∨ k = 4 := by omega
  rcases this with rfl | rfl | rfl | rfl | rfl <;> simp only [nv] <;> omega

theorem fe_any (s : ByteArray) (g a b L : Nat) (w : World) (hs : w.cell? ⟨g, 0, none⟩ = some (.string s)) (hL : b = a + L) (hb : b ≤ s.size) (h4 : L ≤ 4)
    (hsz : s.size ≤ 1000) (hd : ∀ j, j < L → 48 ≤ gB s (a + j) ∧ gB s (a + j) ≤ 57) :
    Calls Tryd.prog 59 #[.int .i64 (a : Int), .int .i64 (b : Int), .pointer (some ⟨g, 0, none⟩)] w fun e w' => e = .returned (.int .i64 (nv s a L)) ∧ Below w.heap.size w w' := by
  have hsl := sl_eq s a b (by omega) hb
  have ht : (s.extract a b).size = L := by rw [ByteArray.size_extract]; omega
  have hx := hide (fun k (hk : k < L) => gB_extract s a b k hb (by omega))
  have hcv := Go.run_bytes_of_string w 9 72 5 (s.extract a b) Tryd.underlying9 Tryd.underlying72 Tryd.underlying5
  have NB := hide (fun k h => nv_bd s a k h)
  have HD := hide hd
  have RC := hide (row_cell w.drew (s.extract a b) (Go.grownCap w (s.extract a b).size 0 5))
  clear hd
  generalize hT : s.extract a b = T at *
  clear hT
  have HBl : Hid (Below w.heap.size w (w.drew.alloc (.cells (Go.bytesRow T (Go.grownCap w T.size 0 5)) 5 ((Go.bytesRow T (Go.grownCap w T.size 0 5)).size, (Go.bytesRow T (Go.grownCap w T.size 0 5)).size + 1)))) := hide (((Below.refl _ _).drew).alloc (Nat.le_refl _) _)
  have hgs : w.drew.heap.size = w.heap.size := rfl
  generalize hW : w.drew.alloc (.cells (Go.bytesRow T (Go.grownCap w T.size 0 5)) 5 ((Go.bytesRow T (Go.grownCap w T.size 0 5)).size, (Go.bytesRow T (Go.grownCap w T.size 0 5)).size + 1)) = W at *
  clear hW
  rw [hgs] at RC
  clear hgs
  generalize Go.grownCap w T.size 0 5 = C at *
  generalize hG : w.heap.size = G at *
  clear hG
  rw [ht] at RC hcv
  clear ht hL hb
  go_enter Tryd.func59, Tryd.ntmps59
  go_wp2_with fail
  go_loop [15, 6, 8] (fun i n _x => ∃ k : Nat, k ≤ L ∧ i = .int .i64 k ∧ n = .int .i64 (nv s a k)) (fun i _ _ => L - (intOf i).toNat)
  case atStart => exact ⟨0, Nat.zero_le _, rfl, rfl⟩
  case round =>
    obtain ⟨k, hk, rfl, rfl⟩ := hrel
    by_cases hlt : k < L
    · have hc := RC.out k hlt
      obtain ⟨d1, d2⟩ := HD.out k hlt
      have X := hide (hx.out k hlt)
      rw [X.out] at hc
      obtain ⟨n1, n2⟩ := NB.out k (by omega) (fun j hj => HD.out j (by omega))
      obtain ⟨n3, n4⟩ := NB.out (k + 1) (by omega) (fun j hj => HD.out j (by omega))
      have hn : nv s a (k + 1) = nv s a k * 10 + (gB s (a + k) - 48) := rfl
      have e1 : IntKind.u8.wrap (gB s (a + k) - 48) = gB s (a + k) - 48 := by simp [IntKind.wrap, IntKind.bits, IntKind.signed]; omega
      have HN := hide hn
      clear hn
      generalize hq : nv s a (k + 1) = N' at *
      have HQ := hide hq
      clear hq
      generalize hg : gB s (a + k) = x at *
      generalize nv s a k = N at *
      go_wp2_with fail
      go_round
      case rel => exact ⟨k + 1, by omega, by go_num, by rw [HQ.out, HN.out]⟩
      case measure => simp [intOf]; omega
    · obtain rfl : k = L := by omega
      go_wp2_with fail
      go_ret
      exact ⟨rfl, HBl.out⟩

theorem fo_any (s : ByteArray) (w : World) : Calls Tryd.prog 51 #[.string s] w fun e w' => e = .returned (.func (.func 59) #[] #[.pointer (some ⟨w.heap.size, 0, none⟩)]) ∧ w' = w.alloc (.cells #[.string s] 9) := by
  have hmf : ∀ (fn : Fn) (first cap : Array Value) (w : World), (Instr.makeFunc fn first cap).run Tryd.prog w = .ok (.func fn first cap) w := fun _ _ _ _ => rfl
  go_enter Tryd.func51, Tryd.ntmps51
  go_wp2_with fail
  go_ret
  exact ⟨rfl, rfl⟩

/-- The form of a date. -/
def dform : ByteArray := ⟨#[48, 48, 48, 48, 45, 48, 48, 45, 48, 48]⟩
theorem df_at (j : Nat) (h : j < 10) (h4 : j ≠ 4) (h7 : j ≠ 7) : gB dform j = 48 := by
  have : j = 0 ∨ j = 1 ∨ j = 2 ∨ j = 3 ∨ j = 5 ∨ j = 6 ∨ j = 8 ∨ j = 9 := by omega
  rcases this with rfl | rfl | rfl | rfl | rfl | rfl | rfl | rfl <;> rfl
theorem dig {s : ByteArray} (h : HasForm s dform) (j : Nat) (hj : j < 10) (h4 : j ≠ 4) (h7 : j ≠ 7) : 48 ≤ gB s j ∧ gB s j ≤ 57 := by
  have hs : s.size = 10 := h.1
  have := h.2 j (by omega)
  rw [df_at j hj h4 h7] at this
  rcases this with ⟨_, a, b⟩ | ⟨a, _⟩
  · exact ⟨a, b⟩
  · exact absurd rfl a

theorem pa_yes (s : ByteArray) (w : World) (T : Tabs w) (h : HasForm s dform) :
    Calls Tryd.prog 36 #[.string s] w fun e w' => e = .returned (.tuple #[.int .i64 (fcV (nv s 0 4) (nv s 5 2) (nv s 8 2)), .int .i64 (fcE (nv s 0 4) (nv s 5 2) (nv s 8 2))]) ∧ Below w.heap.size w w' := by
  have hs : s.size = 10 := h.1
  have H := hide h
  have hf := fun w => hide (hf_yes s dform w (by decide) h)
  have fo := fun w => hide (fo_any s w)
  have f1 : ∀ (g : Nat) (w : World), w.cell? ⟨g, 0, none⟩ = some (.string s) → Hid (Calls Tryd.prog 59 #[.int .i64 0, .int .i64 4, .pointer (some ⟨g, 0, none⟩)] w fun e w' => e = .returned (.int .i64 (nv s 0 4)) ∧ Below w.heap.size w w') := fun g w c => hide (fe_any s g 0 4 4 w c (by omega) (by omega) (by omega) (by omega) (fun j hj => dig h _ (by omega) (by omega) (by omega)))
  have f2 : ∀ (g : Nat) (w : World), w.cell? ⟨g, 0, none⟩ = some (.string s) → Hid (Calls Tryd.prog 59 #[.int .i64 5, .int .i64 7, .pointer (some ⟨g, 0, none⟩)] w fun e w' => e = .returned (.int .i64 (nv s 5 2)) ∧ Below w.heap.size w w') := fun g w c => hide (fe_any s g 5 7 2 w c (by omega) (by omega) (by omega) (by omega) (fun j hj => dig h _ (by omega) (by omega) (by omega)))
  have f3 : ∀ (g : Nat) (w : World), w.cell? ⟨g, 0, none⟩ = some (.string s) → Hid (Calls Tryd.prog 59 #[.int .i64 8, .int .i64 10, .pointer (some ⟨g, 0, none⟩)] w fun e w' => e = .returned (.int .i64 (nv s 8 2)) ∧ Below w.heap.size w w') := fun g w c => hide (fe_any s g 8 10 2 w c (by omega) (by omega) (by omega) (by omega) (fun j hj => dig h _ (by omega) (by omega) (by omega)))
  clear h
  have fc := fun w T => hide (fc_any (nv s 0 4) (nv s 5 2) (nv s 8 2) w T)
  generalize fcV (nv s 0 4) (nv s 5 2) (nv s 8 2) = V at *
  generalize fcE (nv s 0 4) (nv s 5 2) (nv s 8 2) = E at *
  generalize nv s 0 4 = Y at *
  generalize nv s 5 2 = M at *
  generalize nv s 8 2 = D at *
  have TT := hide T
  clear T
  go_enter Tryd.func36, Tryd.ntmps36
  go_wp2_with fail
  refine (hf _).out.mono ?_
  rintro e w' ⟨rfl, n, rfl⟩
  go_wp2_with fail
  refine (fo _).out.mono ?_
  rintro e w' ⟨rfl, rfl⟩
  have hb0 : Below w.heap.size w ((w.drewN n).alloc (.cells #[.string s] 9)) := (below_drewN (Below.refl _ _) n).alloc (Nat.le_refl _) _
  have hc0 : ((w.drewN n).alloc (.cells #[.string s] 9)).cell? ⟨w.heap.size, 0, none⟩ = some (.string s) := by
    have := World.cell?_alloc_new (w.drewN n) #[.string s] 9 0
    simpa using this
  have hg0 : w.heap.size < ((w.drewN n).alloc (.cells #[.string s] 9)).heap.size := by simp
  have HB0 := hide hb0
  clear hb0
  go_wp2_with fail
  generalize (w.drewN n).alloc (.cells #[.string s] 9) = W at *
  refine (f1 _ _ hc0).out.mono ?_
  rintro e w1 ⟨rfl, hb1⟩
  have hc1 := (hb1.cell (p := ⟨w.heap.size, 0, none⟩) hg0).trans hc0
  have hg1 := Nat.lt_of_lt_of_le hg0 hb1.size
  have HB1 := hide (HB0.out.trans (hb1.mono (Nat.le_of_lt hg0)))
  clear hb1
  go_wp2_with fail
  refine (f2 _ _ hc1).out.mono ?_
  rintro e w2 ⟨rfl, hb2⟩
  have hc2 := (hb2.cell (p := ⟨w.heap.size, 0, none⟩) hg1).trans hc1
  have hg2 := Nat.lt_of_lt_of_le hg1 hb2.size
  have HB2 := hide (HB1.out.trans (hb2.mono (Nat.le_of_lt hg1)))
  clear hb2
  go_wp2_with fail
  refine (f3 _ _ hc2).out.mono ?_
  rintro e w3 ⟨rfl, hb3⟩
  have hg3 := Nat.lt_of_lt_of_le hg2 hb3.size
  have HB3 := hide (HB2.out.trans (hb3.mono (Nat.le_of_lt hg2)))
  clear hb3
  go_wp2_with fail
  refine (fc _ (TT.out.keep HB3.out)).out.mono ?_
  rintro e w4 ⟨rfl, hb4⟩
  have HB4 := hide (HB3.out.trans (hb4.mono (Nat.le_of_lt hg3)))
  clear hb4
  go_wp2_with fail
  go_ret2
  exact ⟨rfl, HB4.out⟩
end Go.Proofs.YtahfjhmgmpbmkacDoor
