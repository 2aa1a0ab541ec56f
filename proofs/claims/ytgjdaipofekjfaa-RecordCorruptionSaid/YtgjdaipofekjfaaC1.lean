/-
  Plain mathematics of the checksum: one byte by shifting, by a table, and bit by bit.
-/
set_option linter.unusedVariables false
set_option linter.unusedSimpArgs false
set_option linter.unnecessarySimpa false
namespace Crc

def POLY : Nat := 2197175160
/-- One bit. -/
def stp (r : Nat) : Nat := (r / 2) ^^^ (POLY * (r % 2))
/-- k bits. -/
def stps : Nat → Nat → Nat
  | 0, r => r
  | k + 1, r => stps k (stp r)

theorem xor_div2 (a b : Nat) : (a ^^^ b) / 2 = (a / 2) ^^^ (b / 2) := by
  have := Nat.shiftRight_xor_distrib (a := a) (b := b) (i := 1)
  simpa [Nat.shiftRight_eq_div_pow] using this

theorem xor_mod2 (a b : Nat) : (a ^^^ b) % 2 = (a % 2) ^^^ (b % 2) := by
  have := Nat.xor_mod_two_pow (a := a) (b := b) (n := 1)
  simpa using this

theorem pmul (a b : Nat) : POLY * ((a ^^^ b) % 2) = (POLY * (a % 2)) ^^^ (POLY * (b % 2)) := by
  rw [xor_mod2]
  rcases Nat.mod_two_eq_zero_or_one a with ha | ha <;> rcases Nat.mod_two_eq_zero_or_one b with hb | hb <;> simp [ha, hb]

theorem xor4 (a b c d : Nat) : (a ^^^ b) ^^^ (c ^^^ d) = (a ^^^ c) ^^^ (b ^^^ d) := by
  rw [Nat.xor_assoc, ← Nat.xor_assoc b c d, Nat.xor_comm b c, Nat.xor_assoc c b d, ← Nat.xor_assoc]

theorem stp_xor (a b : Nat) : stp (a ^^^ b) = stp a ^^^ stp b := by
  unfold stp; rw [xor_div2, pmul, xor4]

theorem stps_xor (k a b : Nat) : stps k (a ^^^ b) = stps k a ^^^ stps k b := by
  induction k generalizing a b with
  | zero => rfl
  | succ k ih => simp only [stps]; rw [stp_xor, ih]

theorem stp_even (q : Nat) : stp (2 * q) = q := by
  unfold stp; simp

theorem stps_pow (k q : Nat) : stps k (2 ^ k * q) = q := by
  induction k generalizing q with
  | zero => simp [stps]
  | succ k ih => simp only [stps]; rw [Nat.pow_succ, Nat.mul_comm (2 ^ k) 2, Nat.mul_assoc, stp_even, ih]

theorem split8 (r c : Nat) (hc : c < 256) : r ^^^ c = (256 * (r / 256)) ^^^ ((r % 256) ^^^ c) := by
  have h : r = 256 * (r / 256) ^^^ (r % 256) := by
    have h1 : r % 2 ^ 8 < 2 ^ 8 := Nat.mod_lt _ (by decide)
    have h2 := Nat.two_pow_add_eq_or_of_lt h1 (r / 2 ^ 8)
    have h3 : r = 2 ^ 8 * (r / 2 ^ 8) + r % 2 ^ 8 := (Nat.div_add_mod r (2 ^ 8)).symm
    have h4 : 2 ^ 8 * (r / 2 ^ 8) ||| r % 2 ^ 8 = 2 ^ 8 * (r / 2 ^ 8) ^^^ r % 2 ^ 8 := by
      apply Nat.eq_of_testBit_eq; intro i
      simp only [Nat.testBit_or, Nat.testBit_xor, Nat.testBit_mod_two_pow, Nat.testBit_two_pow_mul]
      by_cases hi : i < 8
      · have : ¬ i ≥ 8 := by omega
        simp [hi, this]
      · simp [hi]
    show r = 2 ^ 8 * (r / 2 ^ 8) ^^^ (r % 2 ^ 8)
    rw [← h4, ← h2]; exact h3
  conv => lhs; rw [h]
  rw [Nat.xor_assoc]

/-- One byte, by the table's entry. -/
theorem byte_table (r c : Nat) (hc : c < 256) : stps 8 (r ^^^ c) = (r / 256) ^^^ stps 8 ((r % 256) ^^^ c) := by
  rw [split8 r c hc, stps_xor]
  have := stps_pow 8 (r / 256)
  rw [show (256 : Nat) = 2 ^ 8 from rfl]; rw [this]

theorem stp_lt {r : Nat} (h : r < 4294967296) : stp r < 4294967296 := by
  unfold stp
  have h1 : r / 2 < 2 ^ 32 := by omega
  have h2 : POLY * (r % 2) < 2 ^ 32 := by unfold POLY; omega
  exact Nat.xor_lt_two_pow h1 h2

theorem stps_lt (k : Nat) {r : Nat} (h : r < 4294967296) : stps k r < 4294967296 := by
  induction k generalizing r with
  | zero => exact h
  | succ k ih => exact ih (stp_lt h)

theorem stps_succ (k r : Nat) : stps (k + 1) r = stp (stps k r) := by
  induction k generalizing r with
  | zero => rfl
  | succ k ih => show stps (k + 1) (stp r) = _; rw [ih]; rfl

/-- The register behind a list of bytes. -/
def reg : Nat → List Nat → Nat
  | r, [] => r
  | r, c :: l => reg (stps 8 (r ^^^ c)) l

theorem reg_append (r : Nat) (a b : List Nat) : reg r (a ++ b) = reg (reg r a) b := by
  induction a generalizing r with
  | nil => rfl
  | cons c l ih => exact ih _

theorem reg_snoc (r : Nat) (a : List Nat) (c : Nat) : reg r (a ++ [c]) = stps 8 (reg r a ^^^ c) := by
  rw [reg_append]; rfl

def Bts (l : List Nat) : Prop := ∀ c ∈ l, c < 256

theorem reg_lt {r : Nat} {l : List Nat} (h : r < 4294967296) (hl : Bts l) : reg r l < 4294967296 := by
  induction l generalizing r with
  | nil => exact h
  | cons c l ih =>
    have hc : c < 256 := hl c (List.mem_cons_self ..)
    exact ih (stps_lt 8 (Nat.xor_lt_two_pow (n := 32) h (by omega))) (fun x hx => hl x (List.mem_cons_of_mem _ hx))

def INV : Nat := 4294967295
/-- The checksum of a byte string that continues one of checksum s. -/
def ext (s : Nat) (l : List Nat) : Nat := reg (s ^^^ INV) l ^^^ INV
def crc (l : List Nat) : Nat := ext 0 l

theorem xx (a b : Nat) : (a ^^^ b) ^^^ b = a := by rw [Nat.xor_assoc, Nat.xor_self, Nat.xor_zero]

theorem ext_append (s : Nat) (a b : List Nat) : ext (ext s a) b = ext s (a ++ b) := by
  unfold ext; rw [xx, reg_append]

theorem ext_lt {s : Nat} {l : List Nat} (h : s < 4294967296) (hl : Bts l) : ext s l < 4294967296 := by
  have hi : INV < 2 ^ 32 := by decide
  exact Nat.xor_lt_two_pow (n := 32) (reg_lt (Nat.xor_lt_two_pow (n := 32) h hi) hl) hi

/-- The register is affine. -/
theorem reg_affine : ∀ (r s t : Nat) (a b c : List Nat), a.length = b.length → b.length = c.length →
    reg (r ^^^ s ^^^ t) (List.zipWith (· ^^^ ·) (List.zipWith (· ^^^ ·) a b) c) = reg r a ^^^ reg s b ^^^ reg t c
  | r, s, t, [], [], [], _, _ => rfl
  | r, s, t, x :: a, y :: b, z :: c, h1, h2 => by
    simp only [List.zipWith_cons_cons, reg]
    have e : (r ^^^ s ^^^ t) ^^^ (x ^^^ y ^^^ z) = (r ^^^ x) ^^^ (s ^^^ y) ^^^ (t ^^^ z) := by
      rw [xor4 (r ^^^ s) t (x ^^^ y) z, xor4 r s x y]
    rw [e, stps_xor, stps_xor]
    exact reg_affine _ _ _ a b c (by simpa using h1) (by simpa using h2)

theorem crc_affine (a b c : List Nat) (h1 : a.length = b.length) (h2 : b.length = c.length) :
    crc (List.zipWith (· ^^^ ·) (List.zipWith (· ^^^ ·) a b) c) = crc a ^^^ crc b ^^^ crc c := by
  unfold crc ext
  have h := reg_affine (0 ^^^ INV) (0 ^^^ INV) (0 ^^^ INV) a b c h1 h2
  have e : (0 ^^^ INV) ^^^ (0 ^^^ INV) ^^^ (0 ^^^ INV) = 0 ^^^ INV := by decide
  rw [e] at h
  rw [h]
  generalize reg (0 ^^^ INV) a = A
  generalize reg (0 ^^^ INV) b = B
  generalize reg (0 ^^^ INV) c = C
  have e2 : (A ^^^ INV) ^^^ (B ^^^ INV) ^^^ (C ^^^ INV) = (A ^^^ B ^^^ C) ^^^ (INV ^^^ INV ^^^ INV) := by rw [xor4 A INV B INV, xor4 (A ^^^ B) (INV ^^^ INV) C INV]
  rw [e2, Nat.xor_self, Nat.zero_xor]

/-- One bit loses nothing. -/
theorem stp_zero {r : Nat} (h : r < 4294967296) (e : stp r = 0) : r = 0 := by
  unfold stp at e
  have e1 : r / 2 = POLY * (r % 2) := by
    have := congrArg (· ^^^ (POLY * (r % 2))) e
    simpa [xx] using this
  unfold POLY at e1
  omega

theorem stps_zero (k : Nat) {r : Nat} (h : r < 4294967296) (e : stps k r = 0) : r = 0 := by
  induction k generalizing r with
  | zero => exact e
  | succ k ih => exact stp_zero h (ih (stp_lt h) e)

theorem xor_eq_zero' {a b : Nat} : a ^^^ b = 0 → a = b := by
  intro h
  have := congrArg (· ^^^ b) h
  simpa [xx] using this

theorem stps_inj {r s : Nat} (hr : r < 4294967296) (hs : s < 4294967296) (e : stps 8 r = stps 8 s) : r = s := by
  apply xor_eq_zero'
  apply stps_zero 8 (Nat.xor_lt_two_pow (n := 32) hr hs)
  rw [stps_xor, e, Nat.xor_self]

theorem reg_inj {l : List Nat} (hl : Bts l) : ∀ {r s : Nat}, r < 4294967296 → s < 4294967296 → reg r l = reg s l → r = s := by
  induction l with
  | nil => intro r s _ _ h; exact h
  | cons c l ih =>
    intro r s hr hs h
    have hc : c < 256 := hl c (List.mem_cons_self ..)
    have hc' : c < 2 ^ 32 := by omega
    have g1 := Nat.xor_lt_two_pow (n := 32) hr hc'
    have g2 := Nat.xor_lt_two_pow (n := 32) hs hc'
    have := stps_inj g1 g2 (ih (fun x hx => hl x (List.mem_cons_of_mem _ hx)) (stps_lt 8 g1) (stps_lt 8 g2) h)
    have := congrArg (· ^^^ c) this
    simpa [xx] using this

theorem reg_byte {a b : List Nat} {c d : Nat} {r : Nat} (hr : r < 4294967296) (ha : Bts a) (hb : Bts b) (hc : c < 256) (hd : d < 256) (hne : c ≠ d) :
    reg r (a ++ c :: b) ≠ reg r (a ++ d :: b) := by
  rw [reg_append, reg_append]
  intro h
  have hg := reg_lt hr ha
  have hc' : c < 2 ^ 32 := by omega
  have hd' : d < 2 ^ 32 := by omega
  have g1 := Nat.xor_lt_two_pow (n := 32) hg hc'
  have g2 := Nat.xor_lt_two_pow (n := 32) hg hd'
  have h1 := stps_inj g1 g2 (reg_inj hb (stps_lt 8 g1) (stps_lt 8 g2) h)
  have h2 := congrArg (fun z => reg r a ^^^ z) h1
  simp only [← Nat.xor_assoc, Nat.xor_self, Nat.zero_xor] at h2
  exact hne h2

theorem crc_byte {a b : List Nat} {c d : Nat} (ha : Bts a) (hb : Bts b) (hc : c < 256) (hd : d < 256) (hne : c ≠ d) :
    crc (a ++ c :: b) ≠ crc (a ++ d :: b) := by
  unfold crc ext
  intro h
  have h' : reg (0 ^^^ INV) (a ++ c :: b) = reg (0 ^^^ INV) (a ++ d :: b) := by
    have := congrArg (· ^^^ INV) h
    simpa only [xx] using this
  exact reg_byte (by decide) ha hb hc hd hne h'

end Crc
