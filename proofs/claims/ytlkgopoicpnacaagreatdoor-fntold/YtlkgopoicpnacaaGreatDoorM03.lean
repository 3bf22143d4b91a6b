/- Rows of uploads that a call has made: their cells, their bytes. No statement of the program but its table of types. Plain arithmetic of the sum: one step, eight steps, a list of bytes; no program in it. Requests and answers that are right: no statement of the program; no condition. Records: what is right, the bytes of one, and which one a text is; no program in it. What records make, one behind the other; no program in it. The greatest epoch of texts; the records ahead that follow each other; no program in it. What the records ahead are: of their sectors, with their numbers, in the order of their epochs, none above the top; no program in it. A record comes back of its text, and a byte of its sum that is turned is told; no program in it. Disks that are right, and what is read off them; no program in it. Stores that are right, and what a record written into one makes; no program in it. -/
import Derived.Test.YtlkgopoicpnacaaGreatDoorM02
import Derived.Test.YtlkgopoicpnacaaGreatDoorM01
namespace Go.Proofs.YtlkgopoicpnacaaGreatDoor
open Go.RowKit
set_option linter.unusedVariables false

/-- An upload. -/
structure U where
  id : ByteArray
  want : Int
  zs : List Int
  done : Bool

/-- An upload of a row: what it says, where its bytes lie. -/
structure UE where
  u : U
  a : Option Addr
  n : Nat
  c : Nat

def UE.cells (e : UE) : List Value := [.string e.u.id, .int .i64 e.u.want, .slice e.a e.n e.c, .bool e.u.done]

def ueCells (l : List UE) : List Value := l.flatMap UE.cells

theorem ueCells_cons (e : UE) (l : List UE) : ueCells (e :: l) = .string e.u.id :: .int .i64 e.u.want :: .slice e.a e.n e.c :: .bool e.u.done :: ueCells l := rfl

theorem ueCells_append (l m : List UE) : ueCells (l ++ m) = ueCells l ++ ueCells m := by simp [ueCells]

theorem ueCells_len (l : List UE) : (ueCells l).length = l.length * 4 := by
  induction l with
  | nil => rfl
  | cons e l ih => rw [ueCells_cons]; simp only [List.length_cons, ih]; omega

theorem ueCells_at (l : List UE) : ∀ i (h : i < l.length), (ueCells l)[i * 4]? = some (.string (l[i]).u.id) ∧ (ueCells l)[i * 4 + 1]? = some (.int .i64 (l[i]).u.want) ∧ (ueCells l)[i * 4 + 2]? = some (.slice (l[i]).a (l[i]).n (l[i]).c) ∧ (ueCells l)[i * 4 + 3]? = some (.bool (l[i]).u.done) := by
  induction l with
  | nil => intro i h; simp at h
  | cons e l ih =>
    intro i h
    cases i with
    | zero => rw [ueCells_cons]; simp
    | succ i =>
      have h' : i < l.length := by simpa using h
      obtain ⟨h0, h1, h2, h3⟩ := ih i h'
      rw [ueCells_cons, show (i + 1) * 4 = i * 4 + 1 + 1 + 1 + 1 by omega]
      refine ⟨?_, ?_, ?_, ?_⟩
      · simpa using h0
      · simpa using h1
      · simpa using h2
      · simpa using h3

theorem ueCells_one (l : List UE) : ∀ u ∈ ueCells l, u.oneCell' = true := by
  intro u hu
  simp only [ueCells, List.mem_flatMap, UE.cells] at hu
  obtain ⟨e, _, hf⟩ := hu
  simp at hf
  rcases hf with rfl | rfl | rfl | rfl <;> rfl

/-- The numbers of an upload in its row are written over. -/
theorem ueCells_set (l : List UE) (e : UE) (m : List UE) (t : ByteArray) (x : Int) :
    ((ueCells (l ++ e :: m)).set (l.length * 4) (.string t)).set (l.length * 4 + 1) (.int .i64 x) = ueCells (l ++ { e with u := ⟨t, x, e.u.zs, e.u.done⟩ } :: m) := by
  have hl := ueCells_len l
  rw [ueCells_append, ueCells_append, ueCells_cons, ueCells_cons]
  rw [List.set_append_right _ _ (by omega), hl, Nat.sub_self, List.set_cons_zero]
  rw [List.set_append_right _ _ (by omega), hl, show l.length * 4 + 1 - l.length * 4 = 1 by omega]
  rfl

theorem ueCells_done (l : List UE) (e : UE) (m : List UE) (b : Bool) :
    (ueCells (l ++ e :: m)).set (l.length * 4 + 3) (.bool b) = ueCells (l ++ { e with u := { e.u with done := b } } :: m) := by
  have hl := ueCells_len l
  rw [ueCells_append, ueCells_append, ueCells_cons, ueCells_cons]
  rw [List.set_append_right _ _ (by omega), hl, show l.length * 4 + 3 - l.length * 4 = 3 by omega]
  rfl

/-- Two bodies do not lie in one block. -/
def uapart (e e' : UE) : Prop := ∀ q, e.a.map (·.block) = some q → e'.a.map (·.block) ≠ some q

/-- A slice value that owns these frames, and each of them its body, no two in one block. -/
def UpRow (W : World) (base : Nat) (v : Value) (l : List UE) : Prop :=
  W.ownsRow base 64 4 v l.length (ueCells l) ∧ (∀ e ∈ l, Owns W base e.a e.n e.c e.u.zs) ∧ l.Pairwise uapart

theorem UpRow.stays {W W' : World} {base : Nat} {v : Value} {l : List UE} (h : UpRow W base v l) (hb : Below W.heap.size W W') : UpRow W' base v l :=
  ⟨own_below h.1 hb, fun e he => (h.2.1 e he).below hb, h.2.2⟩

theorem UpRow.low {W : World} {base b' : Nat} {v : Value} {l : List UE} (h : UpRow W base v l) (hb : b' ≤ base) : UpRow W b' v l :=
  ⟨own_low h.1 hb, fun e he => (h.2.1 e he).low hb, h.2.2⟩

theorem UpRow.shape {W : World} {base : Nat} {v : Value} {l : List UE} (h : UpRow W base v l) : ∃ a c, v = .slice a l.length c := by
  rcases h.1.2 with ⟨rfl, h0⟩ | ⟨g, cap, cur, rfl, _⟩
  · rw [h0]; exact ⟨_, _, rfl⟩
  · exact ⟨_, _, rfl⟩

theorem ownBlock_sU (a : Option Addr) (n cap : Nat) : (Value.slice a n cap).ownBlock = a.map (·.block) := by cases a <;> rfl

/-- The row's block is no body's. -/
theorem UpRow.rowApart {W : World} {base b2 : Nat} {v : Value} {l : List UE} (h : UpRow W base v l) {a : Option Addr} {n c : Nat} {zs : List Int} (ho : Owns W b2 a n c zs) : ∀ q, v.ownBlock = some q → a.map (·.block) ≠ some q := by
  intro q hq
  rcases h.1.2 with ⟨rfl, _⟩ | ⟨g, cap, cur, rfl, _, hg, _⟩
  · cases hq
  · obtain rfl : g = q := by simpa [Value.ownBlock] using hq
    exact ho.other hg (by decide)

theorem UpRow.grown {W W' : World} {base : Nat} {v : Value} {l : List UE} {r : Option Nat} (h : UpRow W base v l) (hg : W.grownBy W' r) (hv : ∀ q, r = some q → v.ownBlock ≠ some q) (hr : ∀ e ∈ l, ∀ q, r = some q → e.a.map (·.block) ≠ some q) : UpRow W' base v l := by
  refine ⟨h.1.kept hg ?_, fun e he => (h.2.1 e he).grown hg (hr e he), h.2.2⟩
  cases e : v.ownBlock with
  | none => exact .inl rfl
  | some k => exact .inr (fun h => hv k h.symm e)

/-- What lies from a bound on is not touched by what lies below it. -/
theorem UpRow.lts {W : World} {base : Nat} {v : Value} {l : List UE} (h : UpRow W base v l) : (∀ q, v.ownBlock = some q → base ≤ q ∧ q < W.heap.size) ∧ ∀ e ∈ l, ∀ q, e.a.map (·.block) = some q → base ≤ q ∧ q < W.heap.size :=
  ⟨h.1.lt, fun e he q hq => (h.2.1 e he).lt q hq⟩

/-- The cells of the upload at an index. -/
theorem UpRow.at {W : World} {base n c : Nat} {a : Option Addr} {l : List UE} (h : UpRow W base (.slice a n c) l) (hn : n = l.length) {i : Nat} (hi : i < l.length) :
    ∃ g, a = some ⟨g, 0, none⟩ ∧ W.cell? ⟨g, i * 4, none⟩ = some (.string (l[i]).u.id) ∧ W.cell? ⟨g, i * 4 + 1, none⟩ = some (.int .i64 (l[i]).u.want) ∧ W.cell? ⟨g, i * 4 + 2, none⟩ = some (.slice (l[i]).a (l[i]).n (l[i]).c) ∧ W.cell? ⟨g, i * 4 + 3, none⟩ = some (.bool (l[i]).u.done) ∧ ∀ j, W.frozen? ⟨g, j, none⟩ = false := by
  rcases h.1.2 with ⟨_, h0⟩ | ⟨g, cap, cur, he, _⟩
  · omega
  · injection he with e1 e2 e3
    subst e1
    have hl := ueCells_len l
    obtain ⟨h0, h1, h2, h3⟩ := ueCells_at l i hi
    have ho := h.1
    rw [hn] at ho
    refine ⟨g, rfl, ?_, ?_, ?_, ?_, fun j => ho.frozenAt j⟩
    · rw [ho.cellAt _ (by omega)]; exact h0
    · rw [ho.cellAt _ (by omega)]; exact h1
    · rw [ho.cellAt _ (by omega)]; exact h2
    · rw [ho.cellAt _ (by omega)]; exact h3

theorem upair_same (M D : List UE) (e e' : UE) (ha : e'.a = e.a) (h : (M ++ e :: D).Pairwise uapart) : (M ++ e' :: D).Pairwise uapart := by
  rw [List.pairwise_append, List.pairwise_cons] at h ⊢
  refine ⟨h.1, ⟨fun y hy q hq => h.2.1.1 y hy q (by rw [← ha]; exact hq), h.2.1.2⟩, fun x hx y hy => ?_⟩
  rcases List.mem_cons.1 hy with rfl | hy
  · intro q hq
    rw [ha]
    exact h.2.2 x hx e (List.mem_cons_self ..) q hq
  · exact h.2.2 x hx y (List.mem_cons_of_mem _ hy)

theorem grow_transU {w w1 w2 : World} {row : Option Nat} (h : w.grownBy w1 row) (k : w1.grownBy w2 row) : w.grownBy w2 row :=
  ⟨k.os.trans h.os, k.tape.trans h.tape, k.output.trans h.output, Nat.le_trans h.size k.size, fun i hi hne => (k.block i (Nat.lt_of_lt_of_le hi h.size) hne).trans (h.block i hi hne)⟩

/-- Cells of an upload are written over in its row, its bytes are as they were. -/
theorem UpRow.renew {W W' : World} {base g n c : Nat} {M D : List UE} {e e' : UE} (h : UpRow W base (.slice (some ⟨g, 0, none⟩) n c) (M ++ e :: D)) (hn : (M ++ e :: D).length = n) (ha : e'.a = e.a ∧ e'.n = e.n ∧ e'.c = e.c ∧ e'.u.zs = e.u.zs) (ho : W'.ownsRow base 64 4 (.slice (some ⟨g, 0, none⟩) n c) n (ueCells (M ++ e' :: D))) (hg : W.grownBy W' (some g)) : UpRow W' base (.slice (some ⟨g, 0, none⟩) n c) (M ++ e' :: D) := by
  refine ⟨?_, ?_, upair_same M D e _ ha.1 h.2.2⟩
  · rw [show (M ++ e' :: D).length = n by rw [← hn]; simp]
    exact ho
  · intro x hx
    have key : ∀ v ∈ M ++ e :: D, Owns W' base v.a v.n v.c v.u.zs := fun v hv => (h.2.1 v hv).grown hg (fun q hq => h.rowApart (h.2.1 v hv) q (by injection hq with hq; subst hq; rfl))
    rcases List.mem_append.1 hx with hx | hx
    · exact key x (List.mem_append_left _ hx)
    · rcases List.mem_cons.1 hx with rfl | hx
      · rw [ha.1, ha.2.1, ha.2.2.1, ha.2.2.2]
        exact key e (List.mem_append_right _ (List.mem_cons_self ..))
      · exact key x (List.mem_append_right _ (List.mem_cons_of_mem _ hx))

/-- An upload's first two cells are written over in its row. -/
theorem UpRow.numbers {W : World} {base g n c : Nat} {M D : List UE} {e : UE} (h : UpRow W base (.slice (some ⟨g, 0, none⟩) n c) (M ++ e :: D)) (hn : (M ++ e :: D).length = n) (t : ByteArray) (x : Int) :
    UpRow ((W.setCell ⟨g, M.length * 4, none⟩ (.string t)).setCell ⟨g, M.length * 4 + 1, none⟩ (.int .i64 x)) base (.slice (some ⟨g, 0, none⟩) n c) (M ++ { e with u := ⟨t, x, e.u.zs, e.u.done⟩ } :: D) ∧ W.grownBy ((W.setCell ⟨g, M.length * 4, none⟩ (.string t)).setCell ⟨g, M.length * 4 + 1, none⟩ (.int .i64 x)) (some g) := by
  have ho := h.1
  rw [hn] at ho
  have h1 := ho.stored (M.length * 4) (.string t)
  have h2 := h1.1.stored (M.length * 4 + 1) (.int .i64 x)
  have a1 : World.grownBy _ _ (some g) := h1.2
  have a2 : World.grownBy _ _ (some g) := h2.2
  have hg := grow_transU a1 a2
  have h6 := h2.1
  rw [ueCells_set] at h6
  exact ⟨h.renew hn ⟨rfl, rfl, rfl, rfl⟩ h6 hg, hg⟩

/-- Whether it is done is written over. -/
theorem UpRow.doned {W : World} {base g n c : Nat} {M D : List UE} {e : UE} (h : UpRow W base (.slice (some ⟨g, 0, none⟩) n c) (M ++ e :: D)) (hn : (M ++ e :: D).length = n) (b : Bool) :
    UpRow (W.setCell ⟨g, M.length * 4 + 3, none⟩ (.bool b)) base (.slice (some ⟨g, 0, none⟩) n c) (M ++ { e with u := { e.u with done := b } } :: D) ∧ W.grownBy (W.setCell ⟨g, M.length * 4 + 3, none⟩ (.bool b)) (some g) := by
  have ho := h.1
  rw [hn] at ho
  have h1 := ho.stored (M.length * 4 + 3) (.bool b)
  have a1 : World.grownBy _ _ (some g) := h1.2
  have h6 := h1.1
  rw [ueCells_done] at h6
  exact ⟨h.renew hn ⟨rfl, rfl, rfl, rfl⟩ h6 a1, a1⟩

/-- A upload's bytes are written over. -/
theorem UpRow.bodied {W W' : World} {base : Nat} {v : Value} {M D : List UE} {e : UE} (h : UpRow W base v (M ++ e :: D)) (zs : List Int) (ho : Owns W' base e.a e.n e.c zs) (hg : W.grownBy W' (e.a.map (·.block))) : UpRow W' base v (M ++ { e with u := { e.u with zs := zs } } :: D) := by
  have hp := h.2.2
  rw [List.pairwise_append, List.pairwise_cons] at hp
  have hrow := h.rowApart (h.2.1 e (List.mem_append_right _ (List.mem_cons_self ..)))
  refine ⟨?_, ?_, upair_same M D e _ rfl h.2.2⟩
  · have h1 : W'.ownsRow base 64 4 v (M ++ e :: D).length (ueCells (M ++ e :: D)) := by
      refine h.1.kept hg ?_
      cases hv : v.ownBlock with
      | none => exact .inl rfl
      | some q => exact .inr (fun hq => hrow q hv hq.symm)
    have e1 : ueCells (M ++ { e with u := { e.u with zs := zs } } :: D) = ueCells (M ++ e :: D) := by rw [ueCells_append, ueCells_append]; rfl
    rw [e1, show (M ++ { e with u := { e.u with zs := zs } } :: D).length = (M ++ e :: D).length by simp]
    exact h1
  · intro u hu
    rcases List.mem_append.1 hu with hu | hu
    · refine (h.2.1 u (List.mem_append_left _ hu)).grown hg (fun q hq hq2 => ?_)
      exact hp.2.2 u hu e (List.mem_cons_self ..) q hq2 hq
    · rcases List.mem_cons.1 hu with rfl | hu
      · exact ho
      · exact (h.2.1 u (List.mem_append_right _ (List.mem_cons_of_mem _ hu))).grown hg (fun q hq => hp.2.1.1 u hu q hq)

/-- What lies below a bound stays where nothing below it is written. -/
theorem UpRow.under {W W' : World} {base B : Nat} {v : Value} {l : List UE} (h : UpRow W base v l) (hb : Below B W W') (h1 : ∀ q, v.ownBlock = some q → q < B) (h2 : ∀ e ∈ l, ∀ q, e.a.map (·.block) = some q → q < B) : UpRow W' base v l := by
  have key : ∀ {e : TypeId} {size n : Nat} {v : Value} {xs : List Value}, W.ownsRow base e size v n xs → (∀ q, v.ownBlock = some q → q < B) → W'.ownsRow base e size v n xs := by
    intro e size n v xs ho hq
    refine ⟨ho.1, ?_⟩
    rcases ho.2 with h0 | ⟨g, cap, cur, rfl, hg, hh, r⟩
    · exact .inl h0
    · exact .inr ⟨g, cap, cur, rfl, hg, (hb.block g (hq g rfl)).trans hh, r⟩
  exact ⟨key h.1 h1, fun e he => ⟨key (h.2.1 e he).1 (fun q hq => h2 e he q (by rw [ownBlock_sU] at hq; exact hq)), (h.2.1 e he).2⟩, h.2.2⟩

theorem UpRow.nil (W : World) : UpRow (W.alloc (.cells #[] 64)) W.heap.size (.slice (some ⟨W.heap.size, 0, none⟩) 0 0) [] :=
  ⟨World.ownsRow_lit W #[] 0 (Nat.le_refl _) (Nat.zero_le _) rfl, by simp, List.Pairwise.nil⟩

end Go.Proofs.YtlkgopoicpnacaaGreatDoor

namespace Go.Proofs.YtlkgopoicpnacaaGreatDoor
open Go.RowKit

def crc1 (x : Nat) : Nat := if x % 2 = 1 then (x / 2) ^^^ 2197175160 else x / 2
def crcN : Nat → Nat → Nat
  | 0, x => x
  | n + 1, x => crc1 (crcN n x)
def crcL (l : List Int) : Nat := l.foldl (fun x b => crcN 8 (x ^^^ b.toNat)) 4294967295

theorem crc1_lt (x : Nat) (h : x < 4294967296) : crc1 x < 4294967296 := by
  unfold crc1
  split
  · have : x / 2 ^^^ 2197175160 < 2 ^ 32 := Nat.xor_lt_two_pow (by omega) (by omega)
    omega
  · omega
theorem crcN_lt (n x : Nat) (h : x < 4294967296) : crcN n x < 4294967296 := by
  induction n with
  | zero => exact h
  | succ n ih => exact crc1_lt _ ih
theorem xor_lt32 (a b : Nat) (ha : a < 4294967296) (hb : b < 4294967296) : a ^^^ b < 4294967296 := by
  have : a ^^^ b < 2 ^ 32 := Nat.xor_lt_two_pow (by omega) (by omega)
  omega
theorem crcL_snoc (l : List Int) (b : Int) : crcL (l ++ [b]) = crcN 8 (crcL l ^^^ b.toNat) := by simp [crcL, List.foldl_append]
theorem crcF_lt (l : List Int) : ∀ x, x < 4294967296 → (∀ n ∈ l, 0 ≤ n ∧ n ≤ 255) → l.foldl (fun x b => crcN 8 (x ^^^ b.toNat)) x < 4294967296 := by
  induction l with
  | nil => intro x hx _; simpa using hx
  | cons b l ih =>
    intro x hx h
    have hb := h b (by simp)
    rw [List.foldl_cons]
    exact ih _ (crcN_lt _ _ (xor_lt32 _ _ hx (by omega))) (fun n hn => h n (by simp [hn]))
theorem crcL_lt (l : List Int) (h : ∀ n ∈ l, 0 ≤ n ∧ n ≤ 255) : crcL l < 4294967296 := crcF_lt l _ (by omega) h
theorem take_snoc (zs : List Int) (j : Nat) (h : j < zs.length) : zs.take (j + 1) = zs.take j ++ [zs.getD j 0] := by
  rw [List.take_add_one, List.getD_eq_getElem?_getD, List.getElem?_eq_getElem h]
  rfl

theorem u32_xor_int (a : Nat) (b : Int) (ha : a < 4294967296) (hb : 0 ≤ b) (hb2 : b < 4294967296) : bits .xor .u32 (a : Int) b = ((a ^^^ b.toNat : Nat) : Int) := by
  obtain ⟨B, rfl⟩ := Int.eq_ofNat_of_zero_le hb
  rw [Int.toNat_natCast]
  exact u32_xor_nat a B ha (by omega)
theorem i64_xor_int (a : Nat) (b : Int) (ha : a < 4294967296) (hb : 0 ≤ b) (hb2 : b < 4294967296) : bits .xor .i64 (a : Int) b = ((a ^^^ b.toNat : Nat) : Int) := by
  obtain ⟨B, rfl⟩ := Int.eq_ofNat_of_zero_le hb
  rw [Int.toNat_natCast]
  exact i64_xor_nat a B (by omega) (by omega)
theorem u32_and1 (a : Nat) (ha : a < 4294967296) : bits .and .u32 (a : Int) 1 = (a : Int) % 2 := by
  have := u32_and_nat a 1 ha (by omega)
  rw [show ((1 : Nat) : Int) = 1 from rfl] at this
  rw [this, Nat.and_one_is_mod]
  omega
theorem i64_and1 (a : Nat) (ha : a < 4294967296) : bits .and .i64 (a : Int) 1 = (a : Int) % 2 := by
  have := i64_and_nat a 1 (by omega) (by omega)
  rw [show ((1 : Nat) : Int) = 1 from rfl] at this
  rw [this, Nat.and_one_is_mod]
  omega
theorem half_cast (a : Nat) : (a : Int) / 2 = ((a / 2 : Nat) : Int) := by omega
theorem u32_turn (a : Nat) (ha : a < 4294967296) : bits .xor .u32 ((a : Int) / 2) 2197175160 = ((a / 2 ^^^ 2197175160 : Nat) : Int) := by
  rw [half_cast]
  exact u32_xor_int (a / 2) 2197175160 (by omega) (by omega) (by omega)
theorem i64_turn (a : Nat) (ha : a < 4294967296) : bits .xor .i64 ((a : Int) / 2) 2197175160 = ((a / 2 ^^^ 2197175160 : Nat) : Int) := by
  rw [half_cast]
  exact i64_xor_int (a / 2) 2197175160 (by omega) (by omega) (by omega)

theorem u32_not (a : Nat) (ha : a < 4294967296) : bits .xor .u32 IntKind.u32.max (a : Int) = ((a ^^^ 4294967295 : Nat) : Int) := by
  have e : IntKind.u32.max = ((4294967295 : Nat) : Int) := by decide
  rw [e, u32_xor_nat _ _ (by omega) ha, Nat.xor_comm]

end Go.Proofs.YtlkgopoicpnacaaGreatDoor

namespace Go.Proofs.YtlkgopoicpnacaaGreatDoor
open Go.RowKit
set_option linter.unusedVariables false

/-- A byte that may stand in an upload's name. -/
def idC (b : UInt8) : Bool := (decide (97 ≤ b.toNat) && decide (b.toNat ≤ 122)) || (decide (48 ≤ b.toNat) && decide (b.toNat ≤ 57))

/-- Whether a text is an upload's name. -/
def idB (s : List UInt8) : Bool := s.all idC && decide (1 ≤ s.length ∧ s.length ≤ 8)

/-- The greatest number of an op; -1: it has none. -/
def mostR (op : Int) : Int := if op = 1 ∨ op = 3 then 1000000000 else if op = 4 then 4294967295 else -1

/-- Whether a request is right. -/
def reqB (op : Int) (s : List UInt8) (n : Int) : Bool := decide (1 ≤ op ∧ op ≤ 6) && idB s && (if mostR op < 0 then n == 0 else decide (0 ≤ n ∧ n ≤ mostR op))

/-- Whether an answer is right. -/
def respB (st off : Int) : Bool := decide (100 ≤ st ∧ st ≤ 599) && decide (-1 ≤ off ∧ off ≤ 1000000000)

theorem idB_long {s : List UInt8} (h : ¬ (1 ≤ s.length ∧ s.length ≤ 8)) : idB s = false := by rw [idB, decide_eq_false h, Bool.and_false]

theorem idB_bad {s : List UInt8} {k : Nat} (hk : k < s.length) (h : idC s[k] = false) : idB s = false := by
  rw [idB, Bool.and_eq_false_iff]
  refine .inl ?_
  rw [List.all_eq_false]
  exact ⟨s[k], List.getElem_mem hk, by simp [h]⟩

theorem idB_good {s : List UInt8} (h : ∀ k (hk : k < s.length), idC s[k] = true) : idB s = decide (1 ≤ s.length ∧ s.length ≤ 8) := by
  have : s.all idC = true := by
    rw [List.all_eq_true]
    intro x hx
    obtain ⟨k, hk, rfl⟩ := List.mem_iff_getElem.1 hx
    exact h k hk
  rw [idB, this, Bool.true_and]

end Go.Proofs.YtlkgopoicpnacaaGreatDoor

namespace Go.Proofs.YtlkgopoicpnacaaGreatDoor
open Go.RowKit
set_option linter.unusedVariables false

/-- The bytes of a text. -/
def txI (s : ByteArray) : List Int := s.data.toList.map fun b => (b.toNat : Int)

/-- The text of bytes. -/
def txU (zs : List Int) : ByteArray := ⟨(zs.map fun z => UInt8.ofNat z.toNat).toArray⟩

theorem txI_len (s : ByteArray) : (txI s).length = s.size := by simp [txI]

theorem txI_range (s : ByteArray) : ∀ x ∈ txI s, 0 ≤ x ∧ x ≤ 255 := by
  intro x hx
  obtain ⟨b, _, rfl⟩ := List.mem_map.1 hx
  have := b.toNat_lt
  omega

theorem txU_size (zs : List Int) : (txU zs).size = zs.length := by simp [txU, ByteArray.size]

theorem txU_txI (s : ByteArray) : txU (txI s) = s := by
  have h : (txI s).map (fun z => UInt8.ofNat z.toNat) = s.data.toList := by
    rw [txI, List.map_map]
    conv => rhs; rw [← List.map_id s.data.toList]
    refine List.map_congr_left fun b _ => ?_
    simp
  rw [txU, h]

theorem txI_txU (zs : List Int) (h : ∀ z ∈ zs, 0 ≤ z ∧ z ≤ 255) : txI (txU zs) = zs := by
  rw [txI, txU]
  simp only [List.map_map]
  conv => rhs; rw [← List.map_id zs]
  refine List.map_congr_left fun z hz => ?_
  have := h z hz
  simp
  omega

theorem txI_inj {s t : ByteArray} (h : txI s = txI t) : s = t := by rw [← txU_txI s, h, txU_txI]

/-- A record. -/
structure R where
  e : Int
  q : Int
  k : Int
  id : ByteArray
  n : Int
  zs : List Int

/-- Whether the number and so many bytes of data fit the kind. -/
def kindB (k n : Int) (d : Nat) : Bool :=
  if k = 1 then decide (0 ≤ n ∧ n ≤ 1000000000) && decide (d = 0)
  else if k = 2 then decide (0 ≤ n ∧ n ≤ 1000000000) && decide (1 ≤ d ∧ d ≤ 24)
  else if k = 3 ∨ k = 4 then decide (n = 0) && decide (d = 0) else false

/-- Whether a record is right. -/
def okRec (e q k : Int) (id : ByteArray) (n : Int) (d : Nat) : Bool :=
  (decide (0 ≤ e ∧ e ≤ 10000) && decide (0 ≤ q ∧ q ≤ 199) && idB id.data.toList) && kindB k n d

def R.ok (r : R) : Bool := okRec r.e r.q r.k r.id r.n r.zs.length

theorem okRec_iff {e q k : Int} {id : ByteArray} {n : Int} {d : Nat} (h : okRec e q k id n d = true) : (0 ≤ e ∧ e ≤ 10000) ∧ (0 ≤ q ∧ q ≤ 199) ∧ (1 ≤ k ∧ k ≤ 4) ∧ (1 ≤ id.size ∧ id.size ≤ 8) ∧ (0 ≤ n ∧ n ≤ 1000000000) ∧ d ≤ 24 := by
  simp only [okRec, idB, Bool.and_eq_true, decide_eq_true_eq, Array.length_toList] at h
  obtain ⟨⟨⟨h1, h2⟩, h3⟩, h4⟩ := h
  have hk : (1 ≤ k ∧ k ≤ 4) ∧ (0 ≤ n ∧ n ≤ 1000000000) ∧ d ≤ 24 := by
    unfold kindB at h4
    split at h4
    · simp only [Bool.and_eq_true, decide_eq_true_eq] at h4
      omega
    · split at h4
      · simp only [Bool.and_eq_true, decide_eq_true_eq] at h4
        omega
      · split at h4
        · simp only [Bool.and_eq_true, decide_eq_true_eq] at h4
          omega
        · cases h4
  exact ⟨h1, h2, hk.1, h3.2, hk.2.1, hk.2.2⟩

/-- The bytes of a record ahead of its sum. -/
def headR (e q k : Nat) (id : ByteArray) : List Int := pbl e 3 3 ++ pbl q 2 2 ++ pbl k 1 1 ++ pbl id.size 1 1 ++ txI id
def recB (e q k : Nat) (id : ByteArray) (n : Nat) (zs : List Int) : List Int := headR e q k id ++ pbl n 4 4 ++ pbl zs.length 1 1 ++ zs

def R.body (r : R) : List Int := recB r.e.toNat r.q.toNat r.k.toNat r.id r.n.toNat r.zs

/-- The bytes of a record. -/
def sumB (l : List Int) : List Int := l ++ pbl (crcL l ^^^ 4294967295) 4 4
def R.put (r : R) : List Int := sumB r.body

/-- The text of a record; nothing of what is not right. -/
def putT (e q k : Int) (id : ByteArray) (n : Int) (zs : List Int) : ByteArray := if okRec e q k id n zs.length then txU (sumB (recB e.toNat q.toNat k.toNat id n.toNat zs)) else ⟨#[]⟩

theorem headR_len (e q k : Nat) (id : ByteArray) : (headR e q k id).length = 7 + id.size := by
  simp only [headR, List.length_append, pbl_len, txI_len]

theorem recB_len (e q k : Nat) (id : ByteArray) (n : Nat) (zs : List Int) : (recB e q k id n zs).length = 12 + id.size + zs.length := by
  simp only [recB, List.length_append, pbl_len, headR_len]
  omega

theorem put_len (r : R) : r.put.length = 16 + r.id.size + r.zs.length := by
  rw [R.put, sumB, List.length_append, pbl_len, R.body, recB_len]
  omega

theorem headR_range (e q k : Nat) (id : ByteArray) : ∀ x ∈ headR e q k id, 0 ≤ x ∧ x ≤ 255 := by
  intro x hx
  simp only [headR, List.mem_append] at hx
  rcases hx with (((h | h) | h) | h) | h
  · exact pbl_range _ _ _ x h
  · exact pbl_range _ _ _ x h
  · exact pbl_range _ _ _ x h
  · exact pbl_range _ _ _ x h
  · exact txI_range _ x h

theorem recB_range (e q k : Nat) (id : ByteArray) (n : Nat) (zs : List Int) (h : ∀ x ∈ zs, 0 ≤ x ∧ x ≤ 255) : ∀ x ∈ recB e q k id n zs, 0 ≤ x ∧ x ≤ 255 := by
  intro x hx
  simp only [recB, List.mem_append] at hx
  rcases hx with ((h1 | h1) | h1) | h1
  · exact headR_range _ _ _ _ x h1
  · exact pbl_range _ _ _ x h1
  · exact pbl_range _ _ _ x h1
  · exact h x h1

theorem sumB_range (l : List Int) (h : ∀ x ∈ l, 0 ≤ x ∧ x ≤ 255) : ∀ x ∈ sumB l, 0 ≤ x ∧ x ≤ 255 := by
  intro x hx
  rcases List.mem_append.1 hx with h1 | h1
  · exact h x h1
  · exact pbl_range _ _ _ x h1

theorem gbOneR (M : Nat) (h : M ≤ 255) : gb (pbl M 1 1) = (M : Int) := by
  simp [gb, pbl, byteOf]; omega
theorem gbTwoR (M : Nat) (h : M ≤ 65535) : gb (pbl M 2 2) = (M : Int) := by
  simp [gb, pbl, byteOf, List.range, List.range.loop]; omega
theorem gbThreeR (M : Nat) (h : M ≤ 16777215) : gb (pbl M 3 3) = (M : Int) := by
  simp [gb, pbl, byteOf, List.range, List.range.loop]; omega
theorem gbFourR (M : Nat) (h : M ≤ 4294967295) : gb (pbl M 4 4) = (M : Int) := by
  simp [gb, pbl, byteOf, List.range, List.range.loop]; omega

/-- How long the name is, of a record's bytes. -/
def idN (l : List Int) : Nat := (gb ((l.drop 6).take 1)).toNat
def dataN (l : List Int) : Nat := (gb ((l.drop (11 + idN l)).take 1)).toNat

/-- The record that bytes tell. -/
def parseR (l : List Int) : R :=
  ⟨gb (l.take 3), gb ((l.drop 3).take 2), gb ((l.drop 5).take 1), txU ((l.drop 7).take (idN l)), gb ((l.drop (7 + idN l)).take 4), (l.drop (12 + idN l)).take (dataN l)⟩

theorem drop_app (a b : List Int) (k : Nat) (h : a.length = k) : (a ++ b).drop k = b := by subst h; simp
theorem take_app (a b : List Int) (k : Nat) (h : a.length = k) : (a ++ b).take k = a := by subst h; simp

/-- What is told of a record's bytes, whatever stands behind them. -/
theorem parse_back (e q k : Nat) (id : ByteArray) (n : Nat) (zs t : List Int) (he : e ≤ 16777215) (hq : q ≤ 65535) (hk : k ≤ 255) (hi : id.size ≤ 255) (hn : n ≤ 4294967295) (hz : zs.length ≤ 255) :
    idN (recB e q k id n zs ++ t) = id.size ∧ dataN (recB e q k id n zs ++ t) = zs.length ∧ parseR (recB e q k id n zs ++ t) = ⟨e, q, k, id, n, zs⟩ := by
  have d0 : recB e q k id n zs ++ t = pbl e 3 3 ++ (pbl q 2 2 ++ (pbl k 1 1 ++ (pbl id.size 1 1 ++ (txI id ++ (pbl n 4 4 ++ (pbl zs.length 1 1 ++ (zs ++ t))))))) := by simp [recB, headR]
  generalize recB e q k id n zs ++ t = l at *
  have d3 : l.drop 3 = pbl q 2 2 ++ (pbl k 1 1 ++ (pbl id.size 1 1 ++ (txI id ++ (pbl n 4 4 ++ (pbl zs.length 1 1 ++ (zs ++ t)))))) := by rw [d0, drop_app _ _ 3 (pbl_len _ _ _)]
  have d5 : l.drop 5 = pbl k 1 1 ++ (pbl id.size 1 1 ++ (txI id ++ (pbl n 4 4 ++ (pbl zs.length 1 1 ++ (zs ++ t))))) := by rw [show 5 = 3 + 2 from rfl, ← List.drop_drop, d3, drop_app _ _ 2 (pbl_len _ _ _)]
  have d6 : l.drop 6 = pbl id.size 1 1 ++ (txI id ++ (pbl n 4 4 ++ (pbl zs.length 1 1 ++ (zs ++ t)))) := by rw [show 6 = 5 + 1 from rfl, ← List.drop_drop, d5, drop_app _ _ 1 (pbl_len _ _ _)]
  have d7 : l.drop 7 = txI id ++ (pbl n 4 4 ++ (pbl zs.length 1 1 ++ (zs ++ t))) := by rw [show 7 = 6 + 1 from rfl, ← List.drop_drop, d6, drop_app _ _ 1 (pbl_len _ _ _)]
  have dn : l.drop (7 + id.size) = pbl n 4 4 ++ (pbl zs.length 1 1 ++ (zs ++ t)) := by rw [← List.drop_drop, d7, drop_app _ _ id.size (txI_len _)]
  have dd : l.drop (11 + id.size) = pbl zs.length 1 1 ++ (zs ++ t) := by rw [show 11 + id.size = 7 + id.size + 4 by omega, ← List.drop_drop, dn, drop_app _ _ 4 (pbl_len _ _ _)]
  have dz : l.drop (12 + id.size) = zs ++ t := by rw [show 12 + id.size = 11 + id.size + 1 by omega, ← List.drop_drop, dd, drop_app _ _ 1 (pbl_len _ _ _)]
  have hid : idN l = id.size := by rw [idN, d6, take_app _ _ 1 (pbl_len _ _ _), gbOneR _ hi, Int.toNat_natCast]
  have hdn : dataN l = zs.length := by rw [dataN, hid, dd, take_app _ _ 1 (pbl_len _ _ _), gbOneR _ hz, Int.toNat_natCast]
  refine ⟨hid, hdn, ?_⟩
  rw [parseR, hid, hdn, d3, d5, d7, dn, dz, take_app _ _ 2 (pbl_len _ _ _), take_app _ _ 1 (pbl_len _ _ _), take_app _ _ id.size (txI_len _), take_app _ _ 4 (pbl_len _ _ _), take_app _ _ zs.length rfl, txU_txI, gbTwoR _ hq, gbOneR _ hk, gbFourR _ hn, d0, take_app _ _ 3 (pbl_len _ _ _), gbThreeR _ he]

theorem parse_put {r : R} (h : r.ok = true) (t : List Int) : idN (r.body ++ t) = r.id.size ∧ dataN (r.body ++ t) = r.zs.length ∧ parseR (r.body ++ t) = r := by
  obtain ⟨he, hq, hk, hi, hn, hd⟩ := okRec_iff h
  obtain ⟨e, q, k, id, n, zs⟩ := r
  dsimp only at he hq hk hi hn hd
  obtain ⟨E, rfl⟩ := Int.eq_ofNat_of_zero_le he.1
  obtain ⟨Q, rfl⟩ := Int.eq_ofNat_of_zero_le hq.1
  obtain ⟨K, rfl⟩ := Int.eq_ofNat_of_zero_le (show 0 ≤ k by omega)
  obtain ⟨M, rfl⟩ := Int.eq_ofNat_of_zero_le hn.1
  have hb := parse_back E Q K id M zs t (by omega) (by omega) (by omega) (by omega) (by omega) (by omega)
  simpa [R.body] using hb

/-- Which record a text is. -/
def recOf (s : ByteArray) : Option R := if (parseR (txI s)).ok = true ∧ (parseR (txI s)).put = txI s then some (parseR (txI s)) else none

theorem recOf_iff {s : ByteArray} {r : R} : recOf s = some r ↔ r.ok = true ∧ r.put = txI s := by
  constructor
  · intro h
    rw [recOf] at h
    split at h
    · injection h with h
      subst h
      assumption
    · cases h
  · rintro ⟨h1, h2⟩
    have hp : parseR (txI s) = r := by rw [← h2]; exact (parse_put h1 _).2.2
    rw [recOf, hp, if_pos ⟨h1, h2⟩]

theorem recOf_none {s : ByteArray} (h : ¬ ((parseR (txI s)).ok = true ∧ (parseR (txI s)).put = txI s)) : recOf s = none := if_neg h

theorem recOf_parse {s : ByteArray} (h1 : (parseR (txI s)).ok = true) (h2 : (parseR (txI s)).put = txI s) : recOf s = some (parseR (txI s)) := if_pos ⟨h1, h2⟩

/-- A text that is a record is long enough. -/
theorem recOf_len {s : ByteArray} (h : recOf s ≠ none) : 16 ≤ s.size ∧ 16 + idN (txI s) + dataN (txI s) = s.size ∧ s.size ≤ 48 := by
  cases hr : recOf s with
  | none => exact absurd hr h
  | some r =>
    obtain ⟨h1, h2⟩ := recOf_iff.1 hr
    obtain ⟨p1, p2, _⟩ := parse_put h1 (pbl (crcL r.body ^^^ 4294967295) 4 4)
    have hl := put_len r
    obtain ⟨_, _, _, hi, _, hd⟩ := okRec_iff h1
    rw [show r.body ++ pbl (crcL r.body ^^^ 4294967295) 4 4 = r.put from rfl, h2] at p1 p2
    rw [h2, txI_len] at hl
    omega

end Go.Proofs.YtlkgopoicpnacaaGreatDoor

namespace Go.Proofs.YtlkgopoicpnacaaGreatDoor
open Go.RowKit
set_option linter.unusedVariables false

/-- Where the upload with a name stands. -/
def atU (l : List U) (id : ByteArray) : Option Nat := l.findIdx? fun u => decide (u.id = id)

def atI (l : List U) (id : ByteArray) : Int := match atU l id with
  | some k => (k : Int)
  | none => -1

theorem atU_none {l : List U} {id : ByteArray} (h : ∀ k (hk : k < l.length), (l[k]).id ≠ id) : atU l id = none := by
  rw [atU, List.findIdx?_eq_none_iff]
  intro x hx
  obtain ⟨k, hk, rfl⟩ := List.getElem_of_mem hx
  exact decide_eq_false (h k hk)

theorem atU_some {l : List U} {id : ByteArray} {k : Nat} (hk : k < l.length) (h1 : (l[k]).id = id) (h2 : ∀ j (hj : j < l.length), j < k → (l[j]).id ≠ id) : atU l id = some k := by
  rw [atU, List.findIdx?_eq_some_iff_getElem]
  exact ⟨hk, decide_eq_true h1, fun j hj => by simpa using h2 j (by omega) hj⟩

theorem atU_is {l : List U} {id : ByteArray} {k : Nat} (h : atU l id = some k) : ∃ hk : k < l.length, (l[k]).id = id := by
  rw [atU, List.findIdx?_eq_some_iff_getElem] at h
  obtain ⟨hk, h1, _⟩ := h
  exact ⟨hk, by simpa using h1⟩

/-- Whether a name is above another. -/
def gtS (x y : ByteArray) : Bool := !(Op.bytesLess x.toList y.toList || x.toList == y.toList)

/-- Where one with a name is put: behind the last of the first k that is not above it. -/
def insK (l : List U) (id : ByteArray) : Nat → Nat
  | 0 => 0
  | k + 1 => match l[k]? with
    | some u => if gtS u.id id = true then insK l id k else k + 1
    | none => k + 1

theorem insK_le (l : List U) (id : ByteArray) : ∀ k, insK l id k ≤ k := by
  intro k
  induction k with
  | zero => exact Nat.le_refl _
  | succ k ih =>
    rw [insK]
    split
    · split
      · omega
      · exact Nat.le_refl _
    · exact Nat.le_refl _

theorem insK_down {l : List U} {id : ByteArray} {k : Nat} {u : U} (h : l[k]? = some u) (hlt : gtS u.id id = true) : insK l id (k + 1) = insK l id k := by rw [insK, h]; exact if_pos hlt
theorem insK_stop {l : List U} {id : ByteArray} {k : Nat} {u : U} (h : l[k]? = some u) (hlt : ¬ gtS u.id id = true) : insK l id (k + 1) = k + 1 := by rw [insK, h]; exact if_neg hlt

/-- An upload is put in order. -/
def makeU (l : List U) (u : U) : List U := l.take (insK l u.id l.length) ++ u :: l.drop (insK l u.id l.length)

/-- What a record makes; none: it does not fit. -/
def oneU (l : List U) (r : R) : Option (List U) :=
  if r.k = 1 then (if atU l r.id = none ∧ l.length < 10 then some (makeU l ⟨r.id, r.n, [], false⟩) else none)
  else match atU l r.id with
    | none => none
    | some k => match l[k]? with
      | none => none
      | some u =>
        if r.k = 2 then (if u.done = true ∨ r.n ≠ (u.zs.length : Int) ∨ u.want < r.n + (r.zs.length : Int) then none else some (l.set k { u with zs := u.zs ++ r.zs }))
        else if r.k = 3 then (if u.done = true ∨ (u.zs.length : Int) ≠ u.want then none else some (l.set k { u with done := true }))
        else if r.k = 4 then some (l.eraseIdx k) else none

/-- What records make. -/
def foldU (rs : List R) : Option (List U) := rs.foldlM oneU []

theorem foldU_step (rs : List R) (k : Nat) (r : R) (h : rs[k]? = some r) : foldU (rs.take (k + 1)) = (foldU (rs.take k)).bind fun l => oneU l r := by
  rw [List.take_add_one, h, foldU, foldU, List.foldlM_append]
  simp [List.foldlM]

/-- Once nothing fits, nothing does. -/
theorem foldU_stop (rs : List R) (k : Nat) (h : foldU (rs.take k) = none) : foldU rs = none := by
  have e : rs = rs.take k ++ rs.drop k := (List.take_append_drop k rs).symm
  rw [e, foldU, List.foldlM_append]
  rw [foldU] at h
  rw [h]
  rfl

theorem makeU_len (l : List U) (u : U) : (makeU l u).length = l.length + 1 := by
  have := insK_le l u.id l.length
  simp [makeU]
  omega

theorem oneU_len {l l' : List U} {r : R} (h : oneU l r = some l') : l'.length ≤ l.length ∨ l'.length ≤ 10 := by
  rw [oneU] at h
  split at h
  · split at h
    · rename_i hc
      injection h with h
      rw [← h, makeU_len]
      omega
    · cases h
  · split at h
    · cases h
    · split at h
      · cases h
      · split at h
        · split at h
          · cases h
          · injection h with h; rw [← h]; left; simp
        · split at h
          · split at h
            · cases h
            · injection h with h; rw [← h]; left; simp
          · split at h
            · injection h with h; rw [← h]; left; exact List.length_eraseIdx_le ..
            · cases h

end Go.Proofs.YtlkgopoicpnacaaGreatDoor

namespace Go.Proofs.YtlkgopoicpnacaaGreatDoor
open Go.RowKit
set_option linter.unusedVariables false

def topStep (m : Int) (s : ByteArray) : Int := match recOf s with
  | none => m
  | some r => if m < r.e then r.e else m

/-- The greatest epoch. -/
def topE (l : List ByteArray) : Int := l.foldl topStep (-1)

theorem topE_step (l : List ByteArray) (k : Nat) (x : ByteArray) (h : l[k]? = some x) : topE (l.take (k + 1)) = topStep (topE (l.take k)) x := by
  rw [List.take_add_one, h]
  simp [topE, List.foldl_append]

theorem topStep_none {m : Int} {s : ByteArray} (h : recOf s = none) : topStep m s = m := by rw [topStep, h]
theorem topStep_some {m : Int} {s : ByteArray} {r : R} (h : recOf s = some r) : topStep m s = if m < r.e then r.e else m := by rw [topStep, h]

/-- Whether the record of a text follows. -/
def nextR (i : Nat) (last : Int) (s : ByteArray) : Option R := match recOf s with
  | none => none
  | some r => if r.q = (i : Int) ∧ last ≤ r.e then some r else none

/-- The records from the i-th on, behind one with this epoch. -/
def scanFrom (i : Nat) (last : Int) : List ByteArray → List R
  | [] => []
  | s :: l => match nextR i last s with
    | none => []
    | some r => r :: scanFrom (i + 1) r.e l

def scanR (l : List ByteArray) : List R := scanFrom 0 0 l

theorem nextR_ok {i : Nat} {last : Int} {s : ByteArray} {r : R} (h : nextR i last s = some r) : recOf s = some r ∧ r.q = (i : Int) ∧ last ≤ r.e := by
  rw [nextR] at h
  split at h
  · cases h
  · rename_i r' hr
    split at h
    · rename_i hc
      injection h with h
      subst h
      exact ⟨hr, hc⟩
    · cases h

end Go.Proofs.YtlkgopoicpnacaaGreatDoor

namespace Go.Proofs.YtlkgopoicpnacaaGreatDoor
open Go.RowKit
set_option linter.unusedVariables false

theorem scanFrom_at (l : List ByteArray) : ∀ (i : Nat) (last : Int) (k : Nat) (r : R), (scanFrom i last l)[k]? = some r → (∃ x, l[k]? = some x ∧ recOf x = some r) ∧ r.q = ((i + k : Nat) : Int) ∧ last ≤ r.e := by
  induction l with
  | nil => intro i last k r h; simp [scanFrom] at h
  | cons s l ih =>
    intro i last k r h
    rw [scanFrom] at h
    cases hn : nextR i last s with
    | none => rw [hn] at h; simp at h
    | some r0 =>
      rw [hn] at h
      obtain ⟨h1, h2, h3⟩ := nextR_ok hn
      cases k with
      | zero =>
        simp at h
        subst h
        exact ⟨⟨s, rfl, h1⟩, by simpa using h2, h3⟩
      | succ k =>
        simp at h
        obtain ⟨⟨x, hx, hr⟩, hq, he⟩ := ih (i + 1) r0.e k r h
        exact ⟨⟨x, by simpa using hx, hr⟩, by rw [hq]; congr 1; omega, by omega⟩

theorem scanFrom_len (l : List ByteArray) : ∀ (i : Nat) (last : Int), (scanFrom i last l).length ≤ l.length := by
  induction l with
  | nil => intro i last; exact Nat.le_refl _
  | cons s l ih =>
    intro i last
    rw [scanFrom]
    cases hn : nextR i last s with
    | none => exact Nat.zero_le _
    | some r0 =>
      have := ih (i + 1) r0.e
      simp only [List.length_cons]
      omega

theorem scanFrom_up (l : List ByteArray) : ∀ (i : Nat) (last : Int) (k : Nat) (r r' : R), (scanFrom i last l)[k]? = some r → (scanFrom i last l)[k + 1]? = some r' → r.e ≤ r'.e := by
  induction l with
  | nil => intro i last k r r' h; simp [scanFrom] at h
  | cons s l ih =>
    intro i last k r r' h h'
    rw [scanFrom] at h h'
    cases hn : nextR i last s with
    | none => rw [hn] at h; simp at h
    | some r0 =>
      rw [hn] at h h'
      cases k with
      | zero =>
        simp at h h'
        subst h
        exact (scanFrom_at l (i + 1) r0.e 0 r' (by simpa using h')).2.2
      | succ k =>
        simp at h h'
        exact ih (i + 1) r0.e k r r' h h'

theorem topStep_ge (m : Int) (s : ByteArray) : m ≤ topStep m s := by
  cases h : recOf s with
  | none => rw [topStep_none h]; exact Int.le_refl _
  | some r => rw [topStep_some h]; split <;> omega

theorem top_ge (l : List ByteArray) : ∀ m : Int, m ≤ l.foldl topStep m := by
  induction l with
  | nil => intro m; exact Int.le_refl _
  | cons s l ih => intro m; exact Int.le_trans (topStep_ge m s) (ih _)

theorem top_in (l : List ByteArray) : ∀ (m : Int) (k : Nat) (x : ByteArray) (r : R), l[k]? = some x → recOf x = some r → r.e ≤ l.foldl topStep m := by
  induction l with
  | nil => intro m k x r h; simp at h
  | cons s l ih =>
    intro m k x r h hr
    cases k with
    | zero =>
      simp at h
      subst h
      refine Int.le_trans ?_ (top_ge l _)
      rw [topStep_some hr]
      split <;> omega
    | succ k => exact ih _ k x r (by simpa using h) hr

/-- One of the records ahead. -/
theorem scan_one {X : List ByteArray} {k : Nat} {r : R} (h : (scanR X)[k]? = some r) : (∃ x, X[k]? = some x ∧ recOf x = some r) ∧ r.q = (k : Int) ∧ r.e ≤ topE X := by
  obtain ⟨⟨x, hx, hr⟩, hq, _⟩ := scanFrom_at X 0 0 k r h
  exact ⟨⟨x, hx, hr⟩, by rw [hq]; congr 1; omega, top_in X (-1) k x r hx hr⟩

theorem scan_two {X : List ByteArray} {k : Nat} {r r' : R} (h : (scanR X)[k]? = some r) (h' : (scanR X)[k + 1]? = some r') : r.e ≤ r'.e := scanFrom_up X 0 0 k r r' h h'

end Go.Proofs.YtlkgopoicpnacaaGreatDoor

namespace Go.Proofs.YtlkgopoicpnacaaGreatDoor
open Go.RowKit
set_option linter.unusedVariables false

theorem putT_ok {r : R} (h : r.ok = true) : putT r.e r.q r.k r.id r.n r.zs = txU r.put := by
  rw [putT, show okRec r.e r.q r.k r.id r.n r.zs.length = true from h]
  rfl

theorem put_range {r : R} (hz : ∀ x ∈ r.zs, 0 ≤ x ∧ x ≤ 255) : ∀ x ∈ r.put, 0 ≤ x ∧ x ≤ 255 := sumB_range _ (recB_range _ _ _ _ _ _ hz)

theorem rec_back {r : R} (h : r.ok = true) (hz : ∀ x ∈ r.zs, 0 ≤ x ∧ x ≤ 255) : recOf (txU r.put) = some r := recOf_iff.2 ⟨h, (txI_txU _ (put_range hz)).symm⟩

/-- Another text of the same length that is the same but for the last four bytes is no record. -/
theorem rec_turned {r : R} (h : r.ok = true) {t : List Int} (ht : ∀ x ∈ t, 0 ≤ x ∧ x ≤ 255) (hl : t.length = r.put.length) (hs : t.take (r.put.length - 4) = r.put.take (r.put.length - 4)) (hne : t ≠ r.put) : recOf (txU t) = none := by
  cases hr : recOf (txU t) with
  | none => rfl
  | some r' =>
    exfalso
    obtain ⟨h1, h2⟩ := recOf_iff.1 hr
    rw [txI_txU t ht] at h2
    have l1 := put_len r
    have l2 := put_len r'
    have b1 : r.put.take (r.put.length - 4) = r.body := by
      rw [l1, R.put, sumB, show 16 + r.id.size + r.zs.length - 4 = r.body.length by rw [R.body, recB_len]; omega]
      exact List.take_left
    have b2 : r'.put.take (r'.put.length - 4) = r'.body := by
      rw [l2, R.put, sumB, show 16 + r'.id.size + r'.zs.length - 4 = r'.body.length by rw [R.body, recB_len]; omega]
      exact List.take_left
    have hlen : r'.put.length = r.put.length := by rw [h2, hl]
    have hb : r'.body = r.body := by rw [← b2, ← b1, hlen, h2, hs]
    exact hne (by rw [← h2, R.put, R.put, hb])

end Go.Proofs.YtlkgopoicpnacaaGreatDoor

namespace Go.Proofs.YtlkgopoicpnacaaGreatDoor
open Go.RowKit
set_option linter.unusedVariables false

/-- Whether a sector may be as it is. -/
def fitsD (x : ByteArray) : Bool := decide (x.size ≤ 64)

/-- A disk that is right. -/
def okD (xs ys : List ByteArray) : Bool := decide (xs.length = ys.length ∧ xs.length ≤ 200) && (xs.all fitsD && ys.all fitsD)

theorem okD_len {xs ys : List ByteArray} (h : ¬ (xs.length = ys.length ∧ xs.length ≤ 200)) : okD xs ys = false := by
  rw [okD, decide_eq_false h, Bool.false_and]

theorem okD_bad {xs ys : List ByteArray} {k : Nat} {x y : ByteArray} (hx : xs[k]? = some x) (hy : ys[k]? = some y) (h : 64 < x.size ∨ 64 < y.size) : okD xs ys = false := by
  rcases h with h | h
  · have : xs.all fitsD = false := by
      rw [List.all_eq_false]
      exact ⟨x, List.mem_of_getElem? hx, by simp [fitsD]; omega⟩
    rw [okD, this, Bool.false_and, Bool.and_false]
  · have : ys.all fitsD = false := by
      rw [List.all_eq_false]
      exact ⟨y, List.mem_of_getElem? hy, by simp [fitsD]; omega⟩
    rw [okD, this, Bool.and_false, Bool.and_false]

theorem okD_good {xs ys : List ByteArray} (hl : xs.length = ys.length) (hb : xs.length ≤ 200) (h : ∀ (i : Nat) (x y : ByteArray), xs[i]? = some x → ys[i]? = some y → x.size ≤ 64 ∧ y.size ≤ 64) : okD xs ys = true := by
  have h1 : xs.all fitsD = true := by
    rw [List.all_eq_true]
    intro x hx
    obtain ⟨i, hi, rfl⟩ := List.mem_iff_getElem.1 hx
    have := (h i _ _ (List.getElem?_eq_getElem hi) (List.getElem?_eq_getElem (by omega))).1
    simp [fitsD, this]
  have h2 : ys.all fitsD = true := by
    rw [List.all_eq_true]
    intro y hy
    obtain ⟨i, hi, rfl⟩ := List.mem_iff_getElem.1 hy
    have := (h i _ _ (List.getElem?_eq_getElem (by omega)) (List.getElem?_eq_getElem hi)).2
    simp [fitsD, this]
  rw [okD, h1, h2, decide_eq_true ⟨hl, hb⟩]
  rfl

theorem okD_iff {xs ys : List ByteArray} : okD xs ys = true ↔ xs.length = ys.length ∧ xs.length ≤ 200 ∧ (∀ x ∈ xs, x.size ≤ 64) ∧ ∀ y ∈ ys, y.size ≤ 64 := by
  simp [okD, fitsD, List.all_eq_true, and_assoc]

/-- The sector at i. -/
def secAt (xs : List ByteArray) (i : Int) : ByteArray := if 0 ≤ i ∧ i < xs.length then xs.getD i.toNat ⟨#[]⟩ else ⟨#[]⟩

end Go.Proofs.YtlkgopoicpnacaaGreatDoor

namespace Go.Proofs.YtlkgopoicpnacaaGreatDoor
open Go.RowKit
set_option linter.unusedVariables false

/-- A store is right. -/
def SOk (X Y : List ByteArray) (ep nx : Int) (us : List U) : Prop :=
  okD X Y = true ∧ (0 ≤ ep ∧ ep ≤ 10000) ∧ foldU (scanR X) = some us ∧ nx = ((scanR X).length : Int) ∧ (∀ r, (scanR X).getLast? = some r → r.e ≤ ep) ∧ ∀ k x r, (scanR X).length ≤ k → X[k]? = some x → recOf x = some r → r.e < ep

noncomputable def decB (P : Prop) : Bool := @decide P (Classical.propDecidable P)
theorem decB_true {P : Prop} (h : P) : decB P = true := @decide_eq_true P (Classical.propDecidable P) h
theorem decB_false {P : Prop} (h : ¬ P) : decB P = false := @decide_eq_false P (Classical.propDecidable P) h
theorem decB_iff {P : Prop} {b : Bool} (h : b = true ↔ P) : b = decB P := by
  cases b with
  | true => exact (decB_true (h.1 rfl)).symm
  | false => exact (decB_false (fun p => by cases h.2 p)).symm

theorem no_store {X Y : List ByteArray} {ep nx : Int} {us : List U} (h : ¬ SOk X Y ep nx us) : (false = true ↔ SOk X Y ep nx us) := ⟨fun h2 => (by cases h2), fun h2 => absurd h2 h⟩

theorem scan_last {ep : Int} (l : List ByteArray) : ∀ (i : Nat) (last : Int), (∀ r, (scanFrom i last l).getLast? = some r → r.e ≤ ep) → ∀ r ∈ scanFrom i last l, r.e ≤ ep := by
  induction l with
  | nil => intro i last _ r hr; simp [scanFrom] at hr
  | cons s l ih =>
    intro i last h r hr
    rw [scanFrom] at h hr
    cases hn : nextR i last s with
    | none => rw [hn] at hr; simp at hr
    | some r0 =>
      rw [hn] at h hr
      dsimp only at h hr
      cases hL : scanFrom (i + 1) r0.e l with
      | nil =>
        rw [hL] at h hr
        obtain rfl : r = r0 := by simpa using hr
        exact h r rfl
      | cons r1 L =>
        have hin : ∀ r ∈ scanFrom (i + 1) r0.e l, r.e ≤ ep := ih (i + 1) r0.e (fun r hr => h r (by rw [hL] at hr ⊢; simpa using hr))
        rcases List.mem_cons.1 hr with rfl | hr
        · have h1 := (scanFrom_at l (i + 1) r.e 0 r1 (by rw [hL]; rfl)).2.2
          have h2 := hin r1 (by rw [hL]; exact List.mem_cons_self ..)
          omega
        · exact hin r hr

/-- A record is written behind the last one that follows. -/
theorem scan_set {r : R} {s : ByteArray} (hs : recOf s = some r) (l : List ByteArray) : ∀ (i : Nat) (last : Int), last ≤ r.e → (scanFrom i last l).length < l.length → r.q = ((i + (scanFrom i last l).length : Nat) : Int) → (∀ x ∈ scanFrom i last l, x.e ≤ r.e) → (∀ k x y, (scanFrom i last l).length < k → l[k]? = some x → recOf x = some y → y.e < r.e) → scanFrom i last (l.set (scanFrom i last l).length s) = scanFrom i last l ++ [r] := by
  induction l with
  | nil => intro i last _ h; simp at h
  | cons t l ih =>
    intro i last hl hlen hq ha hb
    cases hn : nextR i last t with
    | none =>
      have e : scanFrom i last (t :: l) = [] := by rw [scanFrom, hn]
      rw [e] at hlen hq ha hb ⊢
      have hn2 : nextR i last s = some r := by
        rw [nextR, hs]
        exact if_pos ⟨by simpa using hq, hl⟩
      rw [List.length_nil, List.set_cons_zero, scanFrom, hn2]
      cases l with
      | nil => rfl
      | cons y l =>
        have hy : nextR (i + 1) r.e y = none := by
          rw [nextR]
          cases hr : recOf y with
          | none => rfl
          | some z =>
            have := hb 1 y z (by simp) rfl hr
            exact if_neg (fun h => by omega)
        dsimp only
        rw [scanFrom, hy]
        rfl
    | some r0 =>
      have e : scanFrom i last (t :: l) = r0 :: scanFrom (i + 1) r0.e l := by rw [scanFrom, hn]
      rw [e] at hlen hq ha hb ⊢
      rw [List.length_cons, List.set_cons_succ, scanFrom, hn]
      dsimp only
      rw [ih (i + 1) r0.e (ha r0 (List.mem_cons_self ..)) (by simpa using hlen) (by rw [hq, List.length_cons]; congr 1; omega) (fun x hx => ha x (List.mem_cons_of_mem _ hx)) (fun k x y hk hx hy => hb (k + 1) x y (by rw [List.length_cons]; omega) (by simpa using hx) hy)]
      rfl

theorem put_size {r : R} (h : r.ok = true) : (txU r.put).size ≤ 48 := by
  have := okRec_iff h
  rw [txU_size, put_len]
  omega

theorem foldU_snoc (rs : List R) (r : R) : foldU (rs ++ [r]) = (foldU rs).bind fun l => oneU l r := by
  rw [foldU, foldU, List.foldlM_append]
  simp [List.foldlM]

/-- What is right stays so behind a record that fits. -/
theorem SOk.put {X Y : List ByteArray} {ep nx : Int} {us us' : List U} {r : R} (h : SOk X Y ep nx us) (hok : r.ok = true) (hz : ∀ x ∈ r.zs, 0 ≤ x ∧ x ≤ 255) (he : r.e = ep) (hq : r.q = nx) (hlt : nx < (X.length : Int)) (ho : oneU us r = some us') :
    scanR (X.set nx.toNat (txU r.put)) = scanR X ++ [r] ∧ SOk (X.set nx.toNat (txU r.put)) Y ep (nx + 1) us' := by
  obtain ⟨h1, h2, h3, h4, h5, h6⟩ := h
  have hn : nx.toNat = (scanR X).length := by omega
  have hb := rec_back hok hz
  have hsc : scanR (X.set nx.toNat (txU r.put)) = scanR X ++ [r] := by
    rw [hn]
    exact scan_set hb X 0 0 (by omega) (by show (scanR X).length < _; omega) (by rw [hq, h4, Nat.zero_add]; rfl) (fun x hx => by rw [he]; exact scan_last X 0 0 h5 x hx) (fun k x y hk hx hy => by rw [he]; exact h6 k x y (Nat.le_of_lt hk) hx hy)
  refine ⟨hsc, ?_, h2, ?_, ?_, ?_, ?_⟩
  · rw [okD_iff] at h1 ⊢
    refine ⟨by rw [List.length_set]; exact h1.1, by rw [List.length_set]; exact h1.2.1, fun x hx => ?_, h1.2.2.2⟩
    rcases List.mem_or_eq_of_mem_set hx with hx | rfl
    · exact h1.2.2.1 x hx
    · have := put_size hok; omega
  · rw [hsc, foldU_snoc, h3]
    exact ho
  · rw [hsc, List.length_append, h4]
    simp
  · intro y hy
    rw [hsc] at hy
    obtain rfl : r = y := by simpa using hy
    omega
  · intro k x y hk hx hy
    rw [hsc, List.length_append] at hk
    simp at hk
    rw [List.getElem?_set_ne (by omega)] at hx
    exact h6 k x y (by omega) hx hy

theorem top_le {ep : Int} (l : List ByteArray) : ∀ m : Int, (l.foldl topStep m ≤ ep ↔ m ≤ ep ∧ ∀ (k : Nat) x r, l[k]? = some x → recOf x = some r → r.e ≤ ep) := by
  induction l with
  | nil => intro m; simp
  | cons s l ih =>
    intro m
    rw [List.foldl_cons, ih]
    constructor
    · rintro ⟨h1, h2⟩
      refine ⟨Int.le_trans (topStep_ge m s) h1, fun k x r hx hr => ?_⟩
      cases k with
      | zero =>
        simp at hx
        subst hx
        rw [topStep_some hr] at h1
        split at h1 <;> omega
      | succ k => exact h2 k x r (by simpa using hx) hr
    · rintro ⟨h1, h2⟩
      refine ⟨?_, fun k x r hx hr => h2 (k + 1) x r (by simpa using hx) hr⟩
      cases hs : recOf s with
      | none => rw [topStep_none hs]; exact h1
      | some r =>
        rw [topStep_some hs]
        have := h2 0 s r rfl hs
        split <;> omega

/-- Said as the program goes: the greatest epoch ahead and behind. -/
theorem SOk_top {X Y : List ByteArray} {ep nx : Int} {us : List U} (n : Nat) (h1 : okD X Y = true) (h2 : 0 ≤ ep ∧ ep ≤ 10000) (h3 : foldU (scanR X) = some us) (h4 : nx = ((scanR X).length : Int)) (hn : (scanR X).length = n) :
    SOk X Y ep nx us ↔ topE (X.take n) ≤ ep ∧ topE (X.drop n) < ep := by
  subst hn
  have ht : topE (X.take (scanR X).length) ≤ ep ↔ -1 ≤ ep ∧ ∀ (k : Nat) x r, (X.take (scanR X).length)[k]? = some x → recOf x = some r → r.e ≤ ep := top_le _ (-1)
  have hd : topE (X.drop (scanR X).length) ≤ ep - 1 ↔ -1 ≤ ep - 1 ∧ ∀ (k : Nat) x r, (X.drop (scanR X).length)[k]? = some x → recOf x = some r → r.e ≤ ep - 1 := top_le _ (-1)
  rw [show topE (X.drop (scanR X).length) < ep ↔ topE (X.drop (scanR X).length) ≤ ep - 1 from by omega, ht, hd]
  constructor
  · rintro ⟨_, _, _, _, h5, h6⟩
    refine ⟨⟨by omega, fun k x r hx hr => ?_⟩, by omega, fun k x r hx hr => ?_⟩
    · have hk : k < (scanR X).length := by
        have := (List.getElem?_eq_some_iff.1 hx).1
        rw [List.length_take] at this
        omega
      obtain ⟨⟨x', hx', hr'⟩, _⟩ := scan_one (List.getElem?_eq_getElem hk)
      rw [List.getElem?_take_of_lt hk, hx'] at hx
      obtain rfl : x' = x := by simpa using hx
      rw [hr'] at hr
      obtain rfl : (scanR X)[k] = r := by simpa using hr
      exact scan_last X 0 0 h5 _ (List.getElem_mem hk)
    · rw [List.getElem?_drop] at hx
      have := h6 _ x r (by omega) hx hr
      omega
  · rintro ⟨⟨_, h5⟩, _, h6⟩
    refine ⟨h1, h2, h3, h4, fun r hr => ?_, fun k x r hk hx hr => ?_⟩
    · rw [List.getLast?_eq_getElem?] at hr
      have hk := (List.getElem?_eq_some_iff.1 hr).1
      obtain ⟨⟨x', hx', hr'⟩, _⟩ := scan_one hr
      exact h5 _ x' r (by rw [List.getElem?_take_of_lt (by omega)]; exact hx') hr'
    · have := h6 (k - (scanR X).length) x r (by rw [List.getElem?_drop, Nat.add_sub_cancel' hk]; exact hx) hr
      omega

end Go.Proofs.YtlkgopoicpnacaaGreatDoor
