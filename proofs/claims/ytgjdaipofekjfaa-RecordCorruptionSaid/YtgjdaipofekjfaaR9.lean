/-
  Contracts of the reference's Encode and of record.EncodeAll.
-/
import Derived.Test.YtgjdaipofekjfaaR8
namespace Go.Proofs.Ytgjdaipofekjfaa
open Go.RowKit
set_option linter.unusedVariables false
set_option linter.unusedSimpArgs false
set_option linter.unnecessarySimpa false

/-- A slice of slices that reads as L, or nil. -/
def RdL (w : World) (v : Value) (L : List (List Nat)) : Prop := (v = .slice none 0 0 ∧ L = []) ∨ ∃ vs, RdP w v vs L

theorem RdL.keep {W w : World} {v : Value} {L : List (List Nat)} (h : RdL W v L) (hb : Below W.heap.size W w) : RdL w v L := by
  rcases h with h | ⟨vs, h⟩
  · exact .inl h
  · exact .inr ⟨vs, h.keep hb⟩

/-- A new slice of four bytes. -/
theorem word_own (n : Nat) (w : World) (base : Nat) (h : base ≤ w.heap.size) : Ow (w.alloc (.cells (cB (Crc.le4 n)).toArray 5)) base (.slice (some ⟨w.heap.size, 0, none⟩) 4 4) (Crc.le4 n) :=
  ⟨Crc.le4_bts n, by
    have := World.ownsRow_lit w (cB (Crc.le4 n)).toArray 4 h (e := 5) (size := 1) (by unfold maxLen; decide) (by simp [cB_len, Crc.le4_len])
    rw [Crc.le4_len]; exact this⟩

theorem Ow.other {w w' : World} {base : Nat} {v : Value} {l : List Nat} {row : Option Nat} (h : Ow w base v l) (hg : w.grownBy w' row) (hne : v.ownBlock = none ∨ v.ownBlock ≠ row) : Ow w' base v l := ⟨h.1, h.2.kept hg hne⟩
theorem Ow.lt {w : World} {base : Nat} {v : Value} {l : List Nat} (h : Ow w base v l) : ∀ k, v.ownBlock = some k → base ≤ k ∧ k < w.heap.size := h.2.lt
theorem ne_own {w : World} {base : Nat} {v : Value} {l : List Nat} (h : Ow w base v l) (n c : Nat) : (Value.slice (some ⟨w.heap.size, 0, none⟩) n c).ownBlock = none ∨ (Value.slice (some ⟨w.heap.size, 0, none⟩) n c).ownBlock ≠ v.ownBlock := by
  right; intro e
  have := (h.lt _ e.symm).2
  exact absurd this (Nat.lt_irrefl _)

/-- append, in a call that began in the world W. -/
theorem wpList_ap {W : World} {ops : Array Oper} {rest : List Oper} {o : Oper} {a : Act} {w : World} {Q : Exit → Act → World → Prop} {v y : Value} {l l2 : List Nat} (HB : Below W.heap.size W w) (hown : Ow w W.heap.size v l) (hy : RdB w y l2)
    (hb : l.length + l2.length ≤ 140737488355328) (hgd : o.guard = none) (s x : Operand)
    (ho : o.op = .call { callee := .builtin .append, args := #[s, x], argTypes := #[22, 22] }) (hs : a.eval s = v) (hx : a.eval x = y)
    (h : ∀ v' w', Hid (Ow w' W.heap.size v' (l ++ l2)) → Hid (Below W.heap.size W w') → Hid (w.grownBy w' v.ownBlock) → wpList Try.prog ops Q rest (a.put o.dst v') w') : wpList Try.prog ops Q (o :: rest) a w :=
  wpList_app hgd s x ho W.heap.size v l hs hown y l2 hx hy hb HB.size fun v' w' h1 h2 => h v' w' (hide h1) (hide (HB.grown h2 HB.size (fun k hk => (hown.lt k hk).1))) (hide h2)

set_option maxHeartbeats 4000000 in
set_option maxRecDepth 100000 in
theorem renc_any (v : Value) (l : List Nat) (w : World) (h : RdB w v l) (hl : l.length ≤ 1048576) :
    Calls Try.prog 19 #[v] w fun e w' => ∃ v', e = .returned v' ∧ Ow w' w.heap.size v' (Crc.recd l) ∧ Below w.heap.size w w' := by
  obtain ⟨a, c, rfl⟩ := h.form
  have H := hide h
  have HL := hide hl
  have hm' : (l.length : Int) ≤ 1048576 := by omega
  have RDE := hide (show Crc.recd l = (Crc.le4 l.length ++ Crc.le4 (Crc.crc (Crc.le4 l.length ++ l))) ++ l by unfold Crc.recd; rw [List.append_assoc])
  have WA := fun w => hide (word_any l.length w (by omega))
  have cl : Crc.crc (Crc.le4 l.length ++ l) < 4294967296 := Crc.ext_lt (by decide) ((Crc.le4_bts _).append h.1)
  have WB := fun w => hide (word_any (Crc.crc (Crc.le4 l.length ++ l)) w cl)
  generalize hn : l.length = n at *
  have HN := hide hn
  have RS := fun v w (h : RdB w v (Crc.le4 n ++ l)) => hide (rsum_any v _ w h)
  generalize Crc.crc (Crc.le4 n ++ l) = X at *
  have L4 := fun n => hide (Crc.le4_len n)
  clear h hl hn cl
  go_enter Try.func19, Try.ntmps19
  go_wp2_with fail
  refine (WA _).out.mono ?_
  rintro e w1 ⟨rfl, rfl⟩
  have B1 := hide (one_blk w (.cells (cB (Crc.le4 n)).toArray 5))
  have O1 := hide (word_own n w w.heap.size (Nat.le_refl _)).rd
  have H1 := hide (H.out.keep B1.out)
  generalize hw1 : w.alloc (.cells (cB (Crc.le4 n)).toArray 5) = w1 at *
  clear hw1
  have E1 := hide (Ow.empty w1 w1.heap.size (Nat.le_refl _))
  have B2 := hide (one_blk w1 (.cells #[] 5))
  go_wp2_with (first
    | (refine wpList_ap (W := w1) B2.out E1.out (O1.out.keep B2.out) (by rw [(L4 n).out]; simp) rfl (.tmp 9) (.tmp 10) rfl rfl rfl ?_; intro v2 w2 HO2 HB2 HG2; rw [List.nil_append] at HO2; clear HG2)
    | (refine wpList_ap (W := w1) HB2.out HO2.out (H1.out.keep HB2.out) (by rw [(L4 n).out, HN.out]; have := HL.out; omega) rfl (.tmp 11) (.tmp 12) rfl rfl rfl ?_; intro v3 w3 HO3 HB3 HG3; clear HG3))
  refine (RS _ _ HO3.out.rd).out.mono ?_
  rintro e w4 ⟨rfl, rfl⟩
  have E3 := hide (Ow.empty w3 w1.heap.size HB3.out.size)
  have B3 := hide (HB3.out.trans ((one_blk w3 (.cells #[] 5)).mono HB3.out.size))
  clear B2 HO2 HB2 HO3 HB3 RS
  go_wp2_with (refine wpList_ap (W := w1) B3.out E3.out (O1.out.keep B3.out) (by rw [(L4 n).out]; simp) rfl (.tmp 15) (.tmp 16) rfl rfl rfl ?_; intro v5 w5 HO5 HB5 HG5; rw [List.nil_append] at HO5; clear HG5)
  refine (WB _).out.mono ?_
  rintro e w6 ⟨rfl, rfl⟩
  have O6 := hide (word_own X w5 w5.heap.size (Nat.le_refl _)).rd
  have HO6 := hide (HO5.out.keep (one_blk w5 (.cells (cB (Crc.le4 X)).toArray 5)))
  have HB6 := hide (HB5.out.trans ((one_blk w5 (.cells (cB (Crc.le4 X)).toArray 5)).mono HB5.out.size))
  go_wp2_with (first
    | (refine wpList_ap (W := w1) HB6.out HO6.out O6.out (by rw [(L4 n).out, (L4 X).out]; simp) rfl (.tmp 17) (.tmp 19) rfl rfl rfl ?_; intro v7 w7 HO7 HB7 HG7; clear HG7)
    | (refine wpList_ap (W := w1) HB7.out HO7.out (H1.out.keep HB7.out) (by rw [List.length_append, (L4 n).out, (L4 X).out, HN.out]; have := HL.out; omega) rfl (.tmp 20) (.tmp 21) rfl rfl rfl ?_; intro v8 w8 HO8 HB8 HG8; clear HG8))
  go_ret
  exact ⟨_, rfl, by rw [RDE.out]; exact HO8.out.low B1.out.size, B1.out.trans (HB8.out.mono B1.out.size)⟩
end Go.Proofs.Ytgjdaipofekjfaa
