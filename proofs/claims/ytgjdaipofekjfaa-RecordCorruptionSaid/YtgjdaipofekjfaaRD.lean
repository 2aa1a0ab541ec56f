/-
  The first bytes of a slice that came in, and regions that draw whose calls make memory at most.
-/
import Derived.Test.YtgjdaipofekjfaaRC
namespace Go.Proofs.Ytgjdaipofekjfaa
open Go.RowKit
set_option linter.unusedVariables false
set_option linter.unusedSimpArgs false
set_option linter.unnecessarySimpa false

theorem RdB.first {w : World} {a : Option Addr} {len cap n : Nat} {l : List Nat} (h : RdB w (.slice a len cap) l) (hl : l.length = len) (hn : n ≤ len) : RdB w (.slice a n cap) (l.take n) ∧ n ≤ cap := by
  have ht : (l.take n).length = n := by rw [List.length_take]; omega
  rcases h.2 with ⟨a0, hv, rfl⟩ | ⟨b, off, c, hv, g1, g2, g3, gc⟩
  · simp at hv
    obtain ⟨rfl, rfl, rfl⟩ := hv
    have : n = 0 := by omega
    subst this
    exact ⟨⟨h.1.take _, .inl ⟨a, rfl, by simp⟩⟩, Nat.le_refl _⟩
  · simp at hv
    obtain ⟨rfl, e1, rfl⟩ := hv
    refine ⟨⟨h.1.take _, .inr ⟨b, off, cap, by rw [ht], by rw [ht]; omega, g2, g3, fun k hk => ?_⟩⟩, by omega⟩
    rw [ht] at hk
    rw [gc k (by omega)]
    simp [List.getD_eq_getElem?_getD, List.getElem?_take, hk]

/-- append, at a guarded operation. -/
theorem wp_ap {W : World} {o : Oper} {a : Act} {w : World} {K : Act → World → Prop} {Q : Exit → Act → World → Prop} {v y : Value} {l l2 : List Nat} (HB : Below W.heap.size W w) (hown : Ow w W.heap.size v l) (hy : RdB w y l2)
    (hb : l.length + l2.length ≤ 140737488355328) (s x : Operand)
    (ho : o.op = .call { callee := .builtin .append, args := #[s, x], argTypes := #[22, 22] }) (hs : a.eval s = v) (hx : a.eval x = y)
    (h : ∀ v' w', Hid (Ow w' W.heap.size v' (l ++ l2)) → Hid (Below W.heap.size W w') → Hid (w.grownBy w' v.ownBlock) → K (a.put o.dst v') w') : o.wp Try.prog a w K Q := by
  obtain ⟨v', w', hr, h1, h2⟩ := run_app w o.type W.heap.size v l hown y l2 hy hb HB.size
  unfold Oper.wp execOp
  simp only [ho, resolve, invoke, builtin, Sem.run_bind, Sem.run_pure, Result.andThen_ok, List.map_toArray, List.map_cons, List.map_nil, hs, hx, hr]
  exact h v' w' (hide h1) (hide (HB.grown h2 HB.size (fun k hk => (hown.lt k hk).1))) (hide h2)

theorem wpList_apG {W : World} {ops : Array Oper} {rest : List Oper} {o : Oper} {a : Act} {w : World} {Q : Exit → Act → World → Prop} {v y : Value} {l l2 : List Nat} (HB : Below W.heap.size W w) (hown : Ow w W.heap.size v l) (hy : RdB w y l2)
    (hb : l.length + l2.length ≤ 140737488355328) (s x : Operand)
    (ho : o.op = .call { callee := .builtin .append, args := #[s, x], argTypes := #[22, 22] }) (hs : a.eval s = v) (hx : a.eval x = y) (hw : Region.wanted o (yielded ops a.tmps) = true)
    (h : ∀ v' w', Hid (Ow w' W.heap.size v' (l ++ l2)) → Hid (Below W.heap.size W w') → Hid (w.grownBy w' v.ownBlock) → wpList Try.prog ops Q rest (a.put o.dst v') w') : wpList Try.prog ops Q (o :: rest) a w :=
  BigFrame.wpList_want hw fun K hK => wp_ap HB hown hy hb s x ho hs hx fun v' w' h1 h2 h3 => hK _ _ (h v' w' h1 h2 h3)

/-- A world in which all that stood in w0 is as it was. -/
structure Sub (w0 : World) where
  val : World
  below : Below w0.heap.size w0 val
instance (w0 : World) : Nonempty (Sub w0) := ⟨⟨w0, Below.refl _ _⟩⟩
/-- A region that draws its order, whose calls make memory at most: one walk in the order of the text. -/
theorem wp_region_sub {P : Program} {id : Nat} {Q : Exit → Act → World → Prop} {a : Act} {w w0 : World} {l : List Oper} (hm : P.follows .mixedOrders = true) (hB : Region.lexB .any l.toArray = true) (hC : Below w0.heap.size w0 w.drew)
    (h : wpQuiet P l.toArray (fun w' => ∃ x : Sub w0, w' = x.val) (fun a' => ∀ w', (∃ x : Sub w0, w' = x.val) → Q .normal a' w') l a) : (Code.region id l.toArray true).wp P Q a w :=
  wp_region_quiet (C := fun w' => ∃ x : Sub w0, w' = x.val) hm hB ⟨⟨_, hC⟩, rfl⟩ (by simpa using h)
theorem sub_of {P : Program} {f : FuncId} {args : Array Value} {w0 : World} {v : Value} (x : Sub w0) (h : Calls P f args x.val fun e w' => e = .returned v ∧ Below x.val.heap.size x.val w') :
    Calls P f args x.val fun e w'' => e = .returned v ∧ ∃ y : Sub w0, w'' = y.val :=
  h.mono fun _ _ ⟨a, b⟩ => ⟨a, ⟨⟨_, x.below.trans (b.mono x.below.size)⟩, rfl⟩⟩
end Go.Proofs.Ytgjdaipofekjfaa
