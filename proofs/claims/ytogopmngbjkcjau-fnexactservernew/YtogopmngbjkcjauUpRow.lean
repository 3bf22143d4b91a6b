/- Rows of uploads that a call has made: their cells, their bytes. No statement of the program but its table of types. -/
import Derived.Test.YtogopmngbjkcjauBox4
namespace Go.Proofs.Ytogopmngbjkcjau
open Go.RowKit
set_option linter.unusedVariables false

/-- An upload. -/
structure U where
  id : ByteArray
  want : Int
  zs : List Int
  done : Bool

/-- An upload of a row: what it says, where its bytes lie. -/
structure UE where
  u : U
  a : Option Addr
  n : Nat
  c : Nat

def UE.cells (e : UE) : List Value := [.string e.u.id, .int .i64 e.u.want, .slice e.a e.n e.c, .bool e.u.done]

def ueCells (l : List UE) : List Value := l.flatMap UE.cells

theorem ueCells_cons (e : UE) (l : List UE) : ueCells (e :: l) = .string e.u.id :: .int .i64 e.u.want :: .slice e.a e.n e.c :: .bool e.u.done :: ueCells l := rfl

theorem ueCells_append (l m : List UE) : ueCells (l ++ m) = ueCells l ++ ueCells m := by simp [ueCells]

theorem ueCells_len (l : List UE) : (ueCells l).length = l.length * 4 := by
  induction l with
  | nil => rfl
  | cons e l ih => rw [ueCells_cons]; simp only [List.length_cons, ih]; omega

theorem ueCells_at (l : List UE) : ∀ i (h : i < l.length), (ueCells l)[i * 4]? = some (.string (l[i]).u.id) ∧ (ueCells l)[i * 4 + 1]? = some (.int .i64 (l[i]).u.want) ∧ (ueCells l)[i * 4 + 2]? = some (.slice (l[i]).a (l[i]).n (l[i]).c) ∧ (ueCells l)[i * 4 + 3]? = some (.bool (l[i]).u.done) := by
  induction l with
  | nil => intro i h; simp at h
  | cons e l ih =>
    intro i h
    cases i with
    | zero => rw [ueCells_cons]; simp
    | succ i =>
      have h' : i < l.length := by simpa using h
      obtain ⟨h0, h1, h2, h3⟩ := ih i h'
      rw [ueCells_cons, show (i + 1) * 4 = i * 4 + 1 + 1 + 1 + 1 by omega]
      refine ⟨?_, ?_, ?_, ?_⟩
      · simpa using h0
      · simpa using h1
      · simpa using h2
      · simpa using h3

theorem ueCells_one (l : List UE) : ∀ u ∈ ueCells l, u.oneCell' = true := by
  intro u hu
  simp only [ueCells, List.mem_flatMap, UE.cells] at hu
  obtain ⟨e, _, hf⟩ := hu
  simp at hf
  rcases hf with rfl | rfl | rfl | rfl <;> rfl

/-- The numbers of an upload in its row are written over. -/
theorem ueCells_set (l : List UE) (e : UE) (m : List UE) (t : ByteArray) (x : Int) :
    ((ueCells (l ++ e :: m)).set (l.length * 4) (.string t)).set (l.length * 4 + 1) (.int .i64 x) = ueCells (l ++ { e with u := ⟨t, x, e.u.zs, e.u.done⟩ } :: m) := by
  have hl := ueCells_len l
  rw [ueCells_append, ueCells_append, ueCells_cons, ueCells_cons]
  rw [List.set_append_right _ _ (by omega), hl, Nat.sub_self, List.set_cons_zero]
  rw [List.set_append_right _ _ (by omega), hl, show l.length * 4 + 1 - l.length * 4 = 1 by omega]
  rfl

theorem ueCells_done (l : List UE) (e : UE) (m : List UE) (b : Bool) :
    (ueCells (l ++ e :: m)).set (l.length * 4 + 3) (.bool b) = ueCells (l ++ { e with u := { e.u with done := b } } :: m) := by
  have hl := ueCells_len l
  rw [ueCells_append, ueCells_append, ueCells_cons, ueCells_cons]
  rw [List.set_append_right _ _ (by omega), hl, show l.length * 4 + 3 - l.length * 4 = 3 by omega]
  rfl

/-- Two bodies do not lie in one block. -/
def uapart (e e' : UE) : Prop := ∀ q, e.a.map (·.block) = some q → e'.a.map (·.block) ≠ some q

/-- A slice value that owns these frames, and each of them its body, no two in one block. -/
def UpRow (W : World) (base : Nat) (v : Value) (l : List UE) : Prop :=
  W.ownsRow base 31 4 v l.length (ueCells l) ∧ (∀ e ∈ l, Owns W base e.a e.n e.c e.u.zs) ∧ l.Pairwise uapart

theorem UpRow.stays {W W' : World} {base : Nat} {v : Value} {l : List UE} (h : UpRow W base v l) (hb : Below W.heap.size W W') : UpRow W' base v l :=
  ⟨own_below h.1 hb, fun e he => (h.2.1 e he).below hb, h.2.2⟩

theorem UpRow.low {W : World} {base b' : Nat} {v : Value} {l : List UE} (h : UpRow W base v l) (hb : b' ≤ base) : UpRow W b' v l :=
  ⟨own_low h.1 hb, fun e he => (h.2.1 e he).low hb, h.2.2⟩

theorem UpRow.shape {W : World} {base : Nat} {v : Value} {l : List UE} (h : UpRow W base v l) : ∃ a c, v = .slice a l.length c := by
  rcases h.1.2 with ⟨rfl, h0⟩ | ⟨g, cap, cur, rfl, _⟩
  · rw [h0]; exact ⟨_, _, rfl⟩
  · exact ⟨_, _, rfl⟩

theorem ownBlock_sU (a : Option Addr) (n cap : Nat) : (Value.slice a n cap).ownBlock = a.map (·.block) := by cases a <;> rfl

/-- The row's block is no body's. -/
theorem UpRow.rowApart {W : World} {base b2 : Nat} {v : Value} {l : List UE} (h : UpRow W base v l) {a : Option Addr} {n c : Nat} {zs : List Int} (ho : Owns W b2 a n c zs) : ∀ q, v.ownBlock = some q → a.map (·.block) ≠ some q := by
  intro q hq
  rcases h.1.2 with ⟨rfl, _⟩ | ⟨g, cap, cur, rfl, _, hg, _⟩
  · cases hq
  · obtain rfl : g = q := by simpa [Value.ownBlock] using hq
    exact ho.other hg (by decide)

theorem UpRow.grown {W W' : World} {base : Nat} {v : Value} {l : List UE} {r : Option Nat} (h : UpRow W base v l) (hg : W.grownBy W' r) (hv : ∀ q, r = some q → v.ownBlock ≠ some q) (hr : ∀ e ∈ l, ∀ q, r = some q → e.a.map (·.block) ≠ some q) : UpRow W' base v l := by
  refine ⟨h.1.kept hg ?_, fun e he => (h.2.1 e he).grown hg (hr e he), h.2.2⟩
  cases e : v.ownBlock with
  | none => exact .inl rfl
  | some k => exact .inr (fun h => hv k h.symm e)

/-- What lies from a bound on is not touched by what lies below it. -/
theorem UpRow.lts {W : World} {base : Nat} {v : Value} {l : List UE} (h : UpRow W base v l) : (∀ q, v.ownBlock = some q → base ≤ q ∧ q < W.heap.size) ∧ ∀ e ∈ l, ∀ q, e.a.map (·.block) = some q → base ≤ q ∧ q < W.heap.size :=
  ⟨h.1.lt, fun e he q hq => (h.2.1 e he).lt q hq⟩

/-- The cells of the upload at an index. -/
theorem UpRow.at {W : World} {base n c : Nat} {a : Option Addr} {l : List UE} (h : UpRow W base (.slice a n c) l) (hn : n = l.length) {i : Nat} (hi : i < l.length) :
    ∃ g, a = some ⟨g, 0, none⟩ ∧ W.cell? ⟨g, i * 4, none⟩ = some (.string (l[i]).u.id) ∧ W.cell? ⟨g, i * 4 + 1, none⟩ = some (.int .i64 (l[i]).u.want) ∧ W.cell? ⟨g, i * 4 + 2, none⟩ = some (.slice (l[i]).a (l[i]).n (l[i]).c) ∧ W.cell? ⟨g, i * 4 + 3, none⟩ = some (.bool (l[i]).u.done) ∧ ∀ j, W.frozen? ⟨g, j, none⟩ = false := by
  rcases h.1.2 with ⟨_, h0⟩ | ⟨g, cap, cur, he, _⟩
  · omega
  · injection he with e1 e2 e3
    subst e1
    have hl := ueCells_len l
    obtain ⟨h0, h1, h2, h3⟩ := ueCells_at l i hi
    have ho := h.1
    rw [hn] at ho
    refine ⟨g, rfl, ?_, ?_, ?_, ?_, fun j => ho.frozenAt j⟩
    · rw [ho.cellAt _ (by omega)]; exact h0
    · rw [ho.cellAt _ (by omega)]; exact h1
    · rw [ho.cellAt _ (by omega)]; exact h2
    · rw [ho.cellAt _ (by omega)]; exact h3

theorem upair_same (M D : List UE) (e e' : UE) (ha : e'.a = e.a) (h : (M ++ e :: D).Pairwise uapart) : (M ++ e' :: D).Pairwise uapart := by
  rw [List.pairwise_append, List.pairwise_cons] at h ⊢
  refine ⟨h.1, ⟨fun y hy q hq => h.2.1.1 y hy q (by rw [← ha]; exact hq), h.2.1.2⟩, fun x hx y hy => ?_⟩
  rcases List.mem_cons.1 hy with rfl | hy
  · intro q hq
    rw [ha]
    exact h.2.2 x hx e (List.mem_cons_self ..) q hq
  · exact h.2.2 x hx y (List.mem_cons_of_mem _ hy)

theorem grow_transU {w w1 w2 : World} {row : Option Nat} (h : w.grownBy w1 row) (k : w1.grownBy w2 row) : w.grownBy w2 row :=
  ⟨k.os.trans h.os, k.tape.trans h.tape, k.output.trans h.output, Nat.le_trans h.size k.size, fun i hi hne => (k.block i (Nat.lt_of_lt_of_le hi h.size) hne).trans (h.block i hi hne)⟩

/-- Cells of an upload are written over in its row, its bytes are as they were. -/
theorem UpRow.renew {W W' : World} {base g n c : Nat} {M D : List UE} {e e' : UE} (h : UpRow W base (.slice (some ⟨g, 0, none⟩) n c) (M ++ e :: D)) (hn : (M ++ e :: D).length = n) (ha : e'.a = e.a ∧ e'.n = e.n ∧ e'.c = e.c ∧ e'.u.zs = e.u.zs) (ho : W'.ownsRow base 31 4 (.slice (some ⟨g, 0, none⟩) n c) n (ueCells (M ++ e' :: D))) (hg : W.grownBy W' (some g)) : UpRow W' base (.slice (some ⟨g, 0, none⟩) n c) (M ++ e' :: D) := by
  refine ⟨?_, ?_, upair_same M D e _ ha.1 h.2.2⟩
  · rw [show (M ++ e' :: D).length = n by rw [← hn]; simp]
    exact ho
  · intro x hx
    have key : ∀ v ∈ M ++ e :: D, Owns W' base v.a v.n v.c v.u.zs := fun v hv => (h.2.1 v hv).grown hg (fun q hq => h.rowApart (h.2.1 v hv) q (by injection hq with hq; subst hq; rfl))
    rcases List.mem_append.1 hx with hx | hx
    · exact key x (List.mem_append_left _ hx)
    · rcases List.mem_cons.1 hx with rfl | hx
      · rw [ha.1, ha.2.1, ha.2.2.1, ha.2.2.2]
        exact key e (List.mem_append_right _ (List.mem_cons_self ..))
      · exact key x (List.mem_append_right _ (List.mem_cons_of_mem _ hx))

/-- An upload's first two cells are written over in its row. -/
theorem UpRow.numbers {W : World} {base g n c : Nat} {M D : List UE} {e : UE} (h : UpRow W base (.slice (some ⟨g, 0, none⟩) n c) (M ++ e :: D)) (hn : (M ++ e :: D).length = n) (t : ByteArray) (x : Int) :
    UpRow ((W.setCell ⟨g, M.length * 4, none⟩ (.string t)).setCell ⟨g, M.length * 4 + 1, none⟩ (.int .i64 x)) base (.slice (some ⟨g, 0, none⟩) n c) (M ++ { e with u := ⟨t, x, e.u.zs, e.u.done⟩ } :: D) ∧ W.grownBy ((W.setCell ⟨g, M.length * 4, none⟩ (.string t)).setCell ⟨g, M.length * 4 + 1, none⟩ (.int .i64 x)) (some g) := by
  have ho := h.1
  rw [hn] at ho
  have h1 := ho.stored (M.length * 4) (.string t)
  have h2 := h1.1.stored (M.length * 4 + 1) (.int .i64 x)
  have a1 : World.grownBy _ _ (some g) := h1.2
  have a2 : World.grownBy _ _ (some g) := h2.2
  have hg := grow_transU a1 a2
  have h6 := h2.1
  rw [ueCells_set] at h6
  exact ⟨h.renew hn ⟨rfl, rfl, rfl, rfl⟩ h6 hg, hg⟩

/-- Whether it is done is written over. -/
theorem UpRow.doned {W : World} {base g n c : Nat} {M D : List UE} {e : UE} (h : UpRow W base (.slice (some ⟨g, 0, none⟩) n c) (M ++ e :: D)) (hn : (M ++ e :: D).length = n) (b : Bool) :
    UpRow (W.setCell ⟨g, M.length * 4 + 3, none⟩ (.bool b)) base (.slice (some ⟨g, 0, none⟩) n c) (M ++ { e with u := { e.u with done := b } } :: D) ∧ W.grownBy (W.setCell ⟨g, M.length * 4 + 3, none⟩ (.bool b)) (some g) := by
  have ho := h.1
  rw [hn] at ho
  have h1 := ho.stored (M.length * 4 + 3) (.bool b)
  have a1 : World.grownBy _ _ (some g) := h1.2
  have h6 := h1.1
  rw [ueCells_done] at h6
  exact ⟨h.renew hn ⟨rfl, rfl, rfl, rfl⟩ h6 a1, a1⟩

/-- A upload's bytes are written over. -/
theorem UpRow.bodied {W W' : World} {base : Nat} {v : Value} {M D : List UE} {e : UE} (h : UpRow W base v (M ++ e :: D)) (zs : List Int) (ho : Owns W' base e.a e.n e.c zs) (hg : W.grownBy W' (e.a.map (·.block))) : UpRow W' base v (M ++ { e with u := { e.u with zs := zs } } :: D) := by
  have hp := h.2.2
  rw [List.pairwise_append, List.pairwise_cons] at hp
  have hrow := h.rowApart (h.2.1 e (List.mem_append_right _ (List.mem_cons_self ..)))
  refine ⟨?_, ?_, upair_same M D e _ rfl h.2.2⟩
  · have h1 : W'.ownsRow base 31 4 v (M ++ e :: D).length (ueCells (M ++ e :: D)) := by
      refine h.1.kept hg ?_
      cases hv : v.ownBlock with
      | none => exact .inl rfl
      | some q => exact .inr (fun hq => hrow q hv hq.symm)
    have e1 : ueCells (M ++ { e with u := { e.u with zs := zs } } :: D) = ueCells (M ++ e :: D) := by rw [ueCells_append, ueCells_append]; rfl
    rw [e1, show (M ++ { e with u := { e.u with zs := zs } } :: D).length = (M ++ e :: D).length by simp]
    exact h1
  · intro u hu
    rcases List.mem_append.1 hu with hu | hu
    · refine (h.2.1 u (List.mem_append_left _ hu)).grown hg (fun q hq hq2 => ?_)
      exact hp.2.2 u hu e (List.mem_cons_self ..) q hq2 hq
    · rcases List.mem_cons.1 hu with rfl | hu
      · exact ho
      · exact (h.2.1 u (List.mem_append_right _ (List.mem_cons_of_mem _ hu))).grown hg (fun q hq => hp.2.1.1 u hu q hq)

/-- What lies below a bound stays where nothing below it is written. -/
theorem UpRow.under {W W' : World} {base B : Nat} {v : Value} {l : List UE} (h : UpRow W base v l) (hb : Below B W W') (h1 : ∀ q, v.ownBlock = some q → q < B) (h2 : ∀ e ∈ l, ∀ q, e.a.map (·.block) = some q → q < B) : UpRow W' base v l := by
  have key : ∀ {e : TypeId} {size n : Nat} {v : Value} {xs : List Value}, W.ownsRow base e size v n xs → (∀ q, v.ownBlock = some q → q < B) → W'.ownsRow base e size v n xs := by
    intro e size n v xs ho hq
    refine ⟨ho.1, ?_⟩
    rcases ho.2 with h0 | ⟨g, cap, cur, rfl, hg, hh, r⟩
    · exact .inl h0
    · exact .inr ⟨g, cap, cur, rfl, hg, (hb.block g (hq g rfl)).trans hh, r⟩
  exact ⟨key h.1 h1, fun e he => ⟨key (h.2.1 e he).1 (fun q hq => h2 e he q (by rw [ownBlock_sU] at hq; exact hq)), (h.2.1 e he).2⟩, h.2.2⟩

theorem UpRow.nil (W : World) : UpRow (W.alloc (.cells #[] 31)) W.heap.size (.slice (some ⟨W.heap.size, 0, none⟩) 0 0) [] :=
  ⟨World.ownsRow_lit W #[] 0 (Nat.le_refl _) (Nat.zero_le _) rfl, by simp, List.Pairwise.nil⟩

end Go.Proofs.Ytogopmngbjkcjau
