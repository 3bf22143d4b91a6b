/- Rows of frames that a call has made: their cells, their bodies. No statement of the program but its table of types. -/
import Derived.Test.YtpjldfpipchmjaoBox4
namespace Go.Proofs.Ytpjldfpipchmjao
open Go.RowKit
set_option linter.unusedVariables false

/-- A frame of a row: its numbers, where its body lies, its body. -/
structure FE where
  k : Int
  f : Int
  s : Int
  a : Option Addr
  n : Nat
  c : Nat
  zs : List Int

/-- What a frame says. -/
def FE.data (e : FE) : Int × Int × Int × List Int := (e.k, e.f, e.s, e.zs)

def FE.cells (e : FE) : List Value := [.int .i64 e.k, .int .i64 e.f, .int .i64 e.s, .slice e.a e.n e.c]

def feCells (l : List FE) : List Value := l.flatMap FE.cells

theorem feCells_cons (e : FE) (l : List FE) : feCells (e :: l) = .int .i64 e.k :: .int .i64 e.f :: .int .i64 e.s :: .slice e.a e.n e.c :: feCells l := rfl

theorem feCells_append (l m : List FE) : feCells (l ++ m) = feCells l ++ feCells m := by simp [feCells]

theorem feCells_len (l : List FE) : (feCells l).length = l.length * 4 := by
  induction l with
  | nil => rfl
  | cons e l ih => rw [feCells_cons]; simp only [List.length_cons, ih]; omega

theorem feCells_at (l : List FE) : ∀ i (h : i < l.length), (feCells l)[i * 4]? = some (.int .i64 (l[i]).k) ∧ (feCells l)[i * 4 + 1]? = some (.int .i64 (l[i]).f) ∧ (feCells l)[i * 4 + 2]? = some (.int .i64 (l[i]).s) ∧ (feCells l)[i * 4 + 3]? = some (.slice (l[i]).a (l[i]).n (l[i]).c) := by
  induction l with
  | nil => intro i h; simp at h
  | cons e l ih =>
    intro i h
    cases i with
    | zero => rw [feCells_cons]; simp
    | succ i =>
      have h' : i < l.length := by simpa using h
      obtain ⟨h0, h1, h2, h3⟩ := ih i h'
      rw [feCells_cons, show (i + 1) * 4 = i * 4 + 1 + 1 + 1 + 1 by omega, show i * 4 + 1 + 1 + 1 + 1 + 1 = i * 4 + 1 + 1 + 1 + 1 + 1 by omega]
      refine ⟨?_, ?_, ?_, ?_⟩
      · simpa using h0
      · simpa using h1
      · simpa using h2
      · simpa using h3

theorem feCells_one (l : List FE) : ∀ u ∈ feCells l, u.oneCell' = true := by
  intro u hu
  simp only [feCells, List.mem_flatMap, FE.cells] at hu
  obtain ⟨e, _, hf⟩ := hu
  simp at hf
  rcases hf with rfl | rfl | rfl | rfl <;> rfl

/-- The first three numbers of a frame in its row are written over. -/
theorem feCells_set (l : List FE) (e : FE) (m : List FE) (x y z : Int) :
    (((feCells (l ++ e :: m)).set (l.length * 4) (.int .i64 x)).set (l.length * 4 + 1) (.int .i64 y)).set (l.length * 4 + 2) (.int .i64 z) = feCells (l ++ { e with k := x, f := y, s := z } :: m) := by
  have hl := feCells_len l
  rw [feCells_append, feCells_append, feCells_cons, feCells_cons]
  rw [List.set_append_right _ _ (by omega), hl, Nat.sub_self, List.set_cons_zero]
  rw [List.set_append_right _ _ (by omega), hl, show l.length * 4 + 1 - l.length * 4 = 1 by omega]
  rw [List.set_append_right _ _ (by omega), hl, show l.length * 4 + 2 - l.length * 4 = 2 by omega]
  rfl

/-- Two bodies do not lie in one block. -/
def apart (e e' : FE) : Prop := ∀ q, e.a.map (·.block) = some q → e'.a.map (·.block) ≠ some q

/-- A slice value that owns these frames, and each of them its body, no two in one block. -/
def FrRow (W : World) (base : Nat) (v : Value) (l : List FE) : Prop :=
  W.ownsRow base 33 4 v l.length (feCells l) ∧ (∀ e ∈ l, Owns W base e.a e.n e.c e.zs) ∧ l.Pairwise apart

theorem FrRow.stays {W W' : World} {base : Nat} {v : Value} {l : List FE} (h : FrRow W base v l) (hb : Below W.heap.size W W') : FrRow W' base v l :=
  ⟨own_below h.1 hb, fun e he => (h.2.1 e he).below hb, h.2.2⟩

theorem FrRow.low {W : World} {base b' : Nat} {v : Value} {l : List FE} (h : FrRow W base v l) (hb : b' ≤ base) : FrRow W b' v l :=
  ⟨own_low h.1 hb, fun e he => (h.2.1 e he).low hb, h.2.2⟩

theorem FrRow.shape {W : World} {base : Nat} {v : Value} {l : List FE} (h : FrRow W base v l) : ∃ a c, v = .slice a l.length c := by
  rcases h.1.2 with ⟨rfl, h0⟩ | ⟨g, cap, cur, rfl, _⟩
  · rw [h0]; exact ⟨_, _, rfl⟩
  · exact ⟨_, _, rfl⟩

theorem ownBlock_sl (a : Option Addr) (n cap : Nat) : (Value.slice a n cap).ownBlock = a.map (·.block) := by cases a <;> rfl

/-- The row's block is no body's. -/
theorem FrRow.rowApart {W : World} {base b2 : Nat} {v : Value} {l : List FE} (h : FrRow W base v l) {a : Option Addr} {n c : Nat} {zs : List Int} (ho : Owns W b2 a n c zs) : ∀ q, v.ownBlock = some q → a.map (·.block) ≠ some q := by
  intro q hq
  rcases h.1.2 with ⟨rfl, _⟩ | ⟨g, cap, cur, rfl, _, hg, _⟩
  · cases hq
  · obtain rfl : g = q := by simpa [Value.ownBlock] using hq
    exact ho.other hg (by decide)

theorem FrRow.grown {W W' : World} {base : Nat} {v : Value} {l : List FE} {r : Option Nat} (h : FrRow W base v l) (hg : W.grownBy W' r) (hv : ∀ q, r = some q → v.ownBlock ≠ some q) (hr : ∀ e ∈ l, ∀ q, r = some q → e.a.map (·.block) ≠ some q) : FrRow W' base v l := by
  refine ⟨h.1.kept hg ?_, fun e he => (h.2.1 e he).grown hg (hr e he), h.2.2⟩
  cases e : v.ownBlock with
  | none => exact .inl rfl
  | some k => exact .inr (fun h => hv k h.symm e)

/-- What lies from a bound on is not touched by what lies below it. -/
theorem FrRow.lts {W : World} {base : Nat} {v : Value} {l : List FE} (h : FrRow W base v l) : (∀ q, v.ownBlock = some q → base ≤ q ∧ q < W.heap.size) ∧ ∀ e ∈ l, ∀ q, e.a.map (·.block) = some q → base ≤ q ∧ q < W.heap.size :=
  ⟨h.1.lt, fun e he q hq => (h.2.1 e he).lt q hq⟩

/-- The cells of the frame at an index. -/
theorem FrRow.at {W : World} {base n c : Nat} {a : Option Addr} {l : List FE} (h : FrRow W base (.slice a n c) l) (hn : n = l.length) {i : Nat} (hi : i < l.length) :
    ∃ g, a = some ⟨g, 0, none⟩ ∧ W.cell? ⟨g, i * 4, none⟩ = some (.int .i64 (l[i]).k) ∧ W.cell? ⟨g, i * 4 + 1, none⟩ = some (.int .i64 (l[i]).f) ∧ W.cell? ⟨g, i * 4 + 2, none⟩ = some (.int .i64 (l[i]).s) ∧ W.cell? ⟨g, i * 4 + 3, none⟩ = some (.slice (l[i]).a (l[i]).n (l[i]).c) ∧ ∀ j, W.frozen? ⟨g, j, none⟩ = false := by
  rcases h.1.2 with ⟨_, h0⟩ | ⟨g, cap, cur, he, _⟩
  · omega
  · injection he with e1 e2 e3
    subst e1
    have hl := feCells_len l
    obtain ⟨h0, h1, h2, h3⟩ := feCells_at l i hi
    have ho := h.1
    rw [hn] at ho
    refine ⟨g, rfl, ?_, ?_, ?_, ?_, fun j => ho.frozenAt j⟩
    · rw [ho.cellAt _ (by omega)]; exact h0
    · rw [ho.cellAt _ (by omega)]; exact h1
    · rw [ho.cellAt _ (by omega)]; exact h2
    · rw [ho.cellAt _ (by omega)]; exact h3

theorem pair_same (M D : List FE) (e e' : FE) (ha : e'.a = e.a) (h : (M ++ e :: D).Pairwise apart) : (M ++ e' :: D).Pairwise apart := by
  rw [List.pairwise_append, List.pairwise_cons] at h ⊢
  refine ⟨h.1, ⟨fun y hy q hq => h.2.1.1 y hy q (by rw [← ha]; exact hq), h.2.1.2⟩, fun x hx y hy => ?_⟩
  rcases List.mem_cons.1 hy with rfl | hy
  · intro q hq
    rw [ha]
    exact h.2.2 x hx e (List.mem_cons_self ..) q hq
  · exact h.2.2 x hx y (List.mem_cons_of_mem _ hy)

/-- A frame's three numbers are written over in its row. -/
theorem FrRow.numbers {W : World} {base g n c : Nat} {M D : List FE} {e : FE} (h : FrRow W base (.slice (some ⟨g, 0, none⟩) n c) (M ++ e :: D)) (hn : (M ++ e :: D).length = n) (x y z : Int) :
    FrRow (((W.setCell ⟨g, M.length * 4, none⟩ (.int .i64 x)).setCell ⟨g, M.length * 4 + 1, none⟩ (.int .i64 y)).setCell ⟨g, M.length * 4 + 2, none⟩ (.int .i64 z)) base (.slice (some ⟨g, 0, none⟩) n c) (M ++ { e with k := x, f := y, s := z } :: D) ∧
      W.grownBy (((W.setCell ⟨g, M.length * 4, none⟩ (.int .i64 x)).setCell ⟨g, M.length * 4 + 1, none⟩ (.int .i64 y)).setCell ⟨g, M.length * 4 + 2, none⟩ (.int .i64 z)) (some g) := by
  have ho := h.1
  rw [hn] at ho
  have h1 := ho.stored (M.length * 4) (.int .i64 x)
  have h2 := h1.1.stored (M.length * 4 + 1) (.int .i64 y)
  have h3 := h2.1.stored (M.length * 4 + 2) (.int .i64 z)
  have hg : W.grownBy (((W.setCell ⟨g, M.length * 4, none⟩ (.int .i64 x)).setCell ⟨g, M.length * 4 + 1, none⟩ (.int .i64 y)).setCell ⟨g, M.length * 4 + 2, none⟩ (.int .i64 z)) (some g) := by
    have a1 : World.grownBy _ _ (some g) := h1.2
    have a2 : World.grownBy _ _ (some g) := h2.2
    have a3 : World.grownBy _ _ (some g) := h3.2
    exact ⟨a3.os.trans (a2.os.trans a1.os), a3.tape.trans (a2.tape.trans a1.tape), a3.output.trans (a2.output.trans a1.output), Nat.le_trans a1.size (Nat.le_trans a2.size a3.size), fun i hi hne => (a3.block i (Nat.lt_of_lt_of_le hi (Nat.le_trans a1.size a2.size)) hne).trans ((a2.block i (Nat.lt_of_lt_of_le hi a1.size) hne).trans (a1.block i hi hne))⟩
  refine ⟨⟨?_, ?_, pair_same M D e _ rfl h.2.2⟩, hg⟩
  · have h4 := h3.1
    rw [feCells_set] at h4
    rw [show (M ++ { e with k := x, f := y, s := z } :: D).length = n by rw [← hn]; simp]
    exact h4
  · intro e' he
    have key : ∀ u ∈ M ++ e :: D, Owns (((W.setCell ⟨g, M.length * 4, none⟩ (.int .i64 x)).setCell ⟨g, M.length * 4 + 1, none⟩ (.int .i64 y)).setCell ⟨g, M.length * 4 + 2, none⟩ (.int .i64 z)) base u.a u.n u.c u.zs := fun u hu => (h.2.1 u hu).grown hg (fun q hq => h.rowApart (h.2.1 u hu) q (by injection hq with hq; subst hq; rfl))
    rcases List.mem_append.1 he with he | he
    · exact key e' (List.mem_append_left _ he)
    · rcases List.mem_cons.1 he with rfl | he
      · exact key e (List.mem_append_right _ (List.mem_cons_self ..))
      · exact key e' (List.mem_append_right _ (List.mem_cons_of_mem _ he))

/-- A frame's body is written over. -/
theorem FrRow.bodied {W W' : World} {base : Nat} {v : Value} {M D : List FE} {e : FE} (h : FrRow W base v (M ++ e :: D)) (zs : List Int) (ho : Owns W' base e.a e.n e.c zs) (hg : W.grownBy W' (e.a.map (·.block))) : FrRow W' base v (M ++ { e with zs := zs } :: D) := by
  have hp := h.2.2
  rw [List.pairwise_append, List.pairwise_cons] at hp
  have hrow := h.rowApart (h.2.1 e (List.mem_append_right _ (List.mem_cons_self ..)))
  refine ⟨?_, ?_, pair_same M D e _ rfl h.2.2⟩
  · have h1 : W'.ownsRow base 33 4 v (M ++ e :: D).length (feCells (M ++ e :: D)) := by
      refine h.1.kept hg ?_
      cases hv : v.ownBlock with
      | none => exact .inl rfl
      | some q => exact .inr (fun hq => hrow q hv hq.symm)
    have e1 : feCells (M ++ { e with zs := zs } :: D) = feCells (M ++ e :: D) := by rw [feCells_append, feCells_append]; rfl
    rw [e1, show (M ++ { e with zs := zs } :: D).length = (M ++ e :: D).length by simp]
    exact h1
  · intro u hu
    rcases List.mem_append.1 hu with hu | hu
    · refine (h.2.1 u (List.mem_append_left _ hu)).grown hg (fun q hq hq2 => ?_)
      exact hp.2.2 u hu e (List.mem_cons_self ..) q hq2 hq
    · rcases List.mem_cons.1 hu with rfl | hu
      · exact ho
      · exact (h.2.1 u (List.mem_append_right _ (List.mem_cons_of_mem _ hu))).grown hg (fun q hq => hp.2.1.1 u hu q hq)

/-- What lies below a bound stays where nothing below it is written. -/
theorem FrRow.under {W W' : World} {base B : Nat} {v : Value} {l : List FE} (h : FrRow W base v l) (hb : Below B W W') (h1 : ∀ q, v.ownBlock = some q → q < B) (h2 : ∀ e ∈ l, ∀ q, e.a.map (·.block) = some q → q < B) : FrRow W' base v l := by
  have key : ∀ {e : TypeId} {size n : Nat} {v : Value} {xs : List Value}, W.ownsRow base e size v n xs → (∀ q, v.ownBlock = some q → q < B) → W'.ownsRow base e size v n xs := by
    intro e size n v xs ho hq
    refine ⟨ho.1, ?_⟩
    rcases ho.2 with h0 | ⟨g, cap, cur, rfl, hg, hh, r⟩
    · exact .inl h0
    · exact .inr ⟨g, cap, cur, rfl, hg, (hb.block g (hq g rfl)).trans hh, r⟩
  exact ⟨key h.1 h1, fun e he => ⟨key (h.2.1 e he).1 (fun q hq => h2 e he q (by rw [ownBlock_sl] at hq; exact hq)), (h.2.1 e he).2⟩, h.2.2⟩

theorem FrRow.nil (W : World) : FrRow (W.alloc (.cells #[] 33)) W.heap.size (.slice (some ⟨W.heap.size, 0, none⟩) 0 0) [] :=
  ⟨World.ownsRow_lit W #[] 0 (Nat.le_refl _) (Nat.zero_le _) rfl, by simp, List.Pairwise.nil⟩

end Go.Proofs.Ytpjldfpipchmjao
