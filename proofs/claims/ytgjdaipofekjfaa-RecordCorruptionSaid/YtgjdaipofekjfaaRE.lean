/-
  Slices of slices of bytes: what came in, what the call owns; append to one that the call owns.
-/
import Derived.Test.YtgjdaipofekjfaaRD
namespace Go.Proofs.Ytgjdaipofekjfaa
open Go.RowKit
set_option linter.unusedVariables false
set_option linter.unusedSimpArgs false
set_option linter.unnecessarySimpa false

/-- A slice of slices of bytes that came in. -/
def IsRows (w : World) (a : Option Addr) (len cap : Nat) : Prop :=
  (a = none ∧ len = 0 ∧ cap = 0) ∨
  ∃ (x : Addr) (A : Nat → Option Addr) (L C : Nat → Nat) (Z : Nat → List Int), a = some x ∧ len ≤ cap ∧ cap ≤ maxLen ∧
    ∀ r, r < cap → w.cell? (x.add r) = some (.slice (A r) (L r) (C r)) ∧ IsRow .u8 w (A r) (L r) (C r) (Z r)

theorem IsRows.at {w : World} {a : Option Addr} {len cap k : Nat} (h : IsRows w a len cap) (hk : k < len) :
    ∃ b o A L C l, a = some ⟨b, o, none⟩ ∧ Hid (b < w.heap.size) ∧ w.cell? ⟨b, o + k, none⟩ = some (.slice A L C) ∧ Hid (l.length = L ∧ RdB w (.slice A L C) l) := by
  rcases h with ⟨_, rfl, _⟩ | ⟨x, A, L, C, Z, rfl, h1, h2, h3⟩
  · omega
  · obtain ⟨b, off, spot⟩ := x
    have hc0 := (h3 0 (by omega)).1
    have hspot : spot = none := by simpa [Addr.add] using World.cell?_spot hc0
    subst hspot
    obtain ⟨hc, hr⟩ := h3 k (by omega)
    obtain ⟨l, hl, hrd⟩ := hr.rd
    have e : (⟨b, off, none⟩ : Addr).add k = ⟨b, off + k, none⟩ := by unfold Addr.add; split <;> simp_all
    rw [e] at hc
    exact ⟨b, off, A k, L k, C k, l, rfl, World.block_lt_of_cell? w _ hc, hc, hl, hrd⟩

/-- An element: it reads, and lies in memory that came in or in a block of bytes. -/
def Elm (w : World) (base : Nat) (x : Value) (l : List Nat) : Prop :=
  RdB w x l ∧ x.oneCell' = true ∧ (l = [] ∨ ∃ b, x.ownBlock = some b ∧ (b < base ∨ ∃ cur fr, w.heap[b]? = some (.cells cur 5 fr)))
theorem slice_one {v : Value} {a : Option Addr} {n c : Nat} (h : v = .slice a n c) : v.oneCell' = true := by subst h; rfl
theorem Elm.old {W w : World} {x : Value} {l : List Nat} (h : RdB W x l) (hb : Below W.heap.size W w) : Elm w W.heap.size x l := by
  refine ⟨h.keep hb, ?_, ?_⟩
  · obtain ⟨a, c, e⟩ := h.form; exact slice_one e
  · rcases h.2 with ⟨a, rfl, rfl⟩ | ⟨b, off, cap, rfl, g1, g2, g3, gc⟩
    · exact .inl rfl
    · exact .inr ⟨b, rfl, .inl g3⟩
theorem Elm.own {w : World} {base base' : Nat} {x : Value} {l : List Nat} (h : Ow w base' x l) : Elm w base x l := by
  refine ⟨h.rd, ?_, ?_⟩
  · obtain ⟨a, c, e⟩ := h.form; exact slice_one e
  · rcases h.2.2 with ⟨hv, h0⟩ | ⟨g, cap, cur, hv, hb, hg, r⟩
    · exact .inl (List.length_eq_zero_iff.1 h0)
    · exact .inr ⟨g, by rw [hv]; rfl, .inr ⟨cur, _, hg⟩⟩
theorem Elm.grown {w w' : World} {base : Nat} {x : Value} {l : List Nat} {row : Option Nat} (h : Elm w base x l) (hg : w.grownBy w' row)
    (hrow : ∀ g, row = some g → base ≤ g ∧ ∃ cur fr, w.heap[g]? = some (.cells cur 22 fr)) : Elm w' base x l := by
  obtain ⟨hr, h1, h2⟩ := h
  by_cases hl : l = []
  · subst hl
    refine ⟨⟨hr.1, ?_⟩, h1, .inl rfl⟩
    rcases hr.2 with h | ⟨b, off, cap, rfl, g1, g2, g3, gc⟩
    · exact .inl h
    · exact .inr ⟨b, off, cap, rfl, g1, g2, by have := hg.size; omega, fun k hk => absurd hk (Nat.not_lt_zero _)⟩
  · obtain ⟨b, hob, hcase⟩ := h2.resolve_left hl
    rcases hr.2 with ⟨_, _, e⟩ | ⟨b', off, cap, hv, g1, g2, g3, gc⟩
    · exact absurd e hl
    · have hbb : b' = b := by rw [hv] at hob; simpa [Value.ownBlock] using hob
      subst hbb
      have hne : some b' ≠ row := by
        intro e
        obtain ⟨h3, cur, fr, h4⟩ := hrow b' e.symm
        rcases hcase with h5 | ⟨cur', fr', h5⟩
        · omega
        · rw [h4] at h5; simp at h5
      have hk := hg.block b' g3 hne
      refine ⟨⟨hr.1, .inr ⟨b', off, cap, hv, g1, g2, by have := hg.size; omega, fun k hk' => ?_⟩⟩, h1, .inr ⟨b', hob, ?_⟩⟩
      · rw [World.cell?_of_block (w := w) (a := ⟨b', off + k, none⟩) hk]; exact gc k hk'
      · rcases hcase with h5 | ⟨cur', fr', h5⟩
        · exact .inl h5
        · exact .inr ⟨cur', fr', by rw [hk]; exact h5⟩
theorem grownBy_of_below {w w' : World} (hb : Below w.heap.size w w') : w.grownBy w' none := ⟨hb.os, hb.tape, hb.output, hb.size, fun k hk _ => hb.block k hk⟩
theorem Elm.keep {w w' : World} {base : Nat} {x : Value} {l : List Nat} (h : Elm w base x l) (hb : Below w.heap.size w w') : Elm w' base x l :=
  h.grown (grownBy_of_below hb) (fun g e => by cases e)

/-- A slice of slices of bytes of the call's own. -/
def OwL (w : World) (base : Nat) (v : Value) (L : List (List Nat)) : Prop :=
  ∃ vs : List Value, vs.length = L.length ∧ w.ownsRow base 22 1 v L.length vs ∧ ∀ k, k < L.length → Elm w base (vs.getD k undef) (L.getD k [])

theorem OwL.nil (w : World) (base : Nat) : OwL w base (.slice none 0 0) [] := ⟨[], rfl, World.ownsRow_nil w base 22 1, fun k hk => absurd hk (Nat.not_lt_zero _)⟩
theorem OwL.keep {w w' : World} {base : Nat} {v : Value} {L : List (List Nat)} (h : OwL w base v L) (hb : Below w.heap.size w w') : OwL w' base v L := by
  obtain ⟨vs, h1, h2, h3⟩ := h
  exact ⟨vs, h1, h2.kept (row := none) (grownBy_of_below hb) (by cases hv : v.ownBlock <;> simp), fun k hk => (h3 k hk).keep hb⟩
theorem OwL.rd {w : World} {base : Nat} {v : Value} {L : List (List Nat)} (h : OwL w base v L) (hL : L.length ≤ 1000000) : RdL w v L := by
  obtain ⟨vs, h1, h2, h3⟩ := h
  rcases h2.2 with ⟨hv, h0⟩ | ⟨g, cap, cur, hv, hb, hg, hc, hm, hs, ht⟩
  · left; exact ⟨hv, List.length_eq_zero_iff.1 h0⟩
  · right
    refine ⟨vs, h1, hL, fun k hk => (h3 k hk).1, g, 0, cap, hv, hc, hm, (Array.getElem?_eq_some_iff.1 hg).1, fun k hk => ?_⟩
    rw [Nat.zero_add, cell_of_row w g k cur 22 (0, 0) hg]
    have hk' : k < vs.length := by omega
    have e : vs[k]? = some (vs.getD k undef) := by simp [List.getD_eq_getElem?_getD, List.getElem?_eq_getElem hk']
    rw [← e, ← ht, List.getElem?_take, if_pos (by omega)]
    simp
theorem OwL.lt {w : World} {base : Nat} {v : Value} {L : List (List Nat)} (h : OwL w base v L) : ∀ k, v.ownBlock = some k → base ≤ k ∧ k < w.heap.size := by
  obtain ⟨vs, h1, h2, h3⟩ := h; exact h2.lt
theorem OwL.tag {w : World} {base : Nat} {v : Value} {L : List (List Nat)} (h : OwL w base v L) : ∀ g, v.ownBlock = some g → base ≤ g ∧ ∃ cur fr, w.heap[g]? = some (.cells cur 22 fr) := by
  obtain ⟨vs, h1, h2, h3⟩ := h
  intro g hg
  rcases h2.2 with ⟨hv, h0⟩ | ⟨g', cap, cur, hv, hb, hgg, r⟩
  · rw [hv] at hg; cases hg
  · rw [hv] at hg
    have : g' = g := by simpa [Value.ownBlock] using hg
    subst this
    exact ⟨hb, cur, _, hgg⟩
theorem RdL.form {w : World} {v : Value} {L : List (List Nat)} (h : RdL w v L) : ∃ a c, v = .slice a L.length c := by
  rcases h with ⟨rfl, rfl⟩ | ⟨vs, h1, h2, h3, b, off, cap, rfl, _⟩
  · exact ⟨none, 0, rfl⟩
  · exact ⟨_, _, rfl⟩
/-- The element k. -/
theorem RdL.at {w : World} {a : Option Addr} {n c k : Nat} {L : List (List Nat)} (h : RdL w (.slice a n c) L) (hk : k < L.length) :
    ∃ b o A m C, a = some ⟨b, o, none⟩ ∧ Hid (b < w.heap.size) ∧ w.cell? ⟨b, o + k, none⟩ = some (.slice A m C) ∧ Hid (RdB w (.slice A m C) (L.getD k []) ∧ (L.getD k []).length = m) := by
  rcases h with ⟨_, rfl⟩ | ⟨vs, h1, h2, h3, b, off, cap, hv, g1, g2, g3, gc⟩
  · exact absurd hk (Nat.not_lt_zero _)
  · simp at hv
    obtain ⟨rfl, rfl, rfl⟩ := hv
    obtain ⟨A, C, e⟩ := (h3 k hk).form
    have hc := gc k hk
    have hr := h3 k hk
    rw [e] at hc hr
    exact ⟨b, off, A, _, C, rfl, g3, hc, hr, rfl⟩

theorem Try.info22 : (Try.prog.info? 22).map (fun i => (i.zero, i.size, i.bytes)) = some (some (.slice none 0 0), 1, 24) := by kernel_rfl

/-- A new slice of one slice. -/
def One (w : World) (v : Value) (x : Value) : Prop := ∃ g, v = .slice (some ⟨g, 0, none⟩) 1 1 ∧ g < w.heap.size ∧ w.cell? ⟨g, 0, none⟩ = some x
theorem One.new (w : World) (x : Value) : One (w.alloc (.cells #[x] 22)) (.slice (some ⟨w.heap.size, 0, none⟩) 1 1) x :=
  ⟨_, rfl, by simp, by rw [World.cell?_alloc_at _ _ _ _ rfl]; rfl⟩
theorem One.keep {w w' : World} {v x : Value} (h : One w v x) (hb : Below w.heap.size w w') : One w' v x := by
  obtain ⟨g, h1, h2, h3⟩ := h
  exact ⟨g, h1, by have := hb.size; omega, (hb.cell (p := ⟨g, 0, none⟩) h2).trans h3⟩

theorem wpList_apL {W : World} {ops : Array Oper} {rest : List Oper} {o : Oper} {a : Act} {w : World} {Q : Exit → Act → World → Prop} {v y x : Value} {L : List (List Nat)} {l : List Nat} (HB : Below W.heap.size W w) (hown : OwL w W.heap.size v L)
    (hy : One w y x) (hx : Elm w W.heap.size x l) (hl : L.length ≤ 1000000) (hgd : o.guard = none) (s t : Operand)
    (ho : o.op = .call { callee := .builtin .append, args := #[s, t], argTypes := #[29, 29] }) (hs : a.eval s = v) (ht : a.eval t = y)
    (h : ∀ v' w', Hid (OwL w' W.heap.size v' (L ++ [l])) → Hid (Below W.heap.size W w') → Hid (w.grownBy w' v.ownBlock) → wpList Try.prog ops Q rest (a.put o.dst v') w') : wpList Try.prog ops Q (o :: rest) a w := by
  obtain ⟨i0, hi, hz0, hz1, hz2⟩ := info_parts Try.info22
  obtain ⟨g, rfl, hg1, hg2⟩ := hy
  have htag := hown.tag
  obtain ⟨vs, h1, h2, h3⟩ := hown
  obtain ⟨v', w', hr, ho', hg, _⟩ := run_append_own (P := Try.prog) w W.heap.size 29 o.type 22 i0 (.slice none 0 0) 1 24 Try.underlying29 hi hz0 hz1 hz2 rfl (by decide) v L.length vs h2 ⟨g, 0, none⟩ 1 1 [x]
    rfl (fun j u hu => by
      have : j = 0 := by have := (List.getElem?_eq_some_iff.1 hu).1; simpa using this
      subst this
      simp at hu; subst hu
      simpa [Addr.add] using hg2) (fun u hu => by simp at hu; subst hu; exact hx.2.1) (by unfold maxLen; omega) (by omega) HB.size
  refine wpList_plain hgd fun K hK => ?_
  unfold Oper.wp execOp
  simp only [ho, resolve, invoke, builtin, Sem.run_bind, Sem.run_pure, Result.andThen_ok, List.map_toArray, List.map_cons, List.map_nil, hs, ht, hr]
  refine hK _ _ (h v' w' (hide ⟨vs ++ [x], by simp [h1], ?_, fun k hk => ?_⟩) (hide (HB.grown hg HB.size (fun k hk => (htag k hk).1))) (hide hg))
  · rw [List.length_append]; exact ho'
  · rw [List.length_append] at hk
    simp at hk
    by_cases hlt : k < L.length
    · have e1 : (vs ++ [x]).getD k undef = vs.getD k undef := by simp [List.getD_eq_getElem?_getD, List.getElem?_append_left (show k < vs.length by omega)]
      have e2 : (L ++ [l]).getD k [] = L.getD k [] := by simp [List.getD_eq_getElem?_getD, List.getElem?_append_left hlt]
      rw [e1, e2]
      exact (h3 k hlt).grown hg htag
    · have hkk : k = L.length := by omega
      subst hkk
      have e1 : (vs ++ [x]).getD L.length undef = x := by rw [← h1]; simp [List.getD_eq_getElem?_getD]
      have e2 : (L ++ [l]).getD L.length [] = l := by simp [List.getD_eq_getElem?_getD]
      rw [e1, e2]
      exact hx.grown hg htag
end Go.Proofs.Ytgjdaipofekjfaa
