/- Lanes: two numbers each; rows of lanes in memory, rows that a call has made. No statement of the program but its table of types. -/
import Derived.Test.YtkicfiacnpifkadOwn
namespace Go.Proofs.Ytkicfiacnpifkad
open Go.RowKit
set_option linter.unusedVariables false

abbrev Lane := Int × Int

/-- The cells of a row of lanes. -/
def laneCells (l : List Lane) : List Value := l.flatMap fun s => [.int .i64 s.1, .int .i64 s.2]

theorem laneCells_cons (s : Lane) (l : List Lane) : laneCells (s :: l) = .int .i64 s.1 :: .int .i64 s.2 :: laneCells l := rfl

theorem laneCells_append (l m : List Lane) : laneCells (l ++ m) = laneCells l ++ laneCells m := by simp [laneCells]

theorem laneCells_len (l : List Lane) : (laneCells l).length = l.length * 2 := by
  induction l with
  | nil => rfl
  | cons f fs ih => rw [laneCells_cons, List.length_cons, List.length_cons, ih, List.length_cons]; omega

theorem laneCells_at (l : List Lane) : ∀ i (hi : i < l.length), (laneCells l)[i * 2]? = some (.int .i64 (l[i]).1) ∧ (laneCells l)[i * 2 + 1]? = some (.int .i64 (l[i]).2) := by
  induction l with
  | nil => intro i hi; simp at hi
  | cons f fs ih =>
    intro i hi
    rw [laneCells_cons]
    cases i with
    | zero => simp
    | succ i =>
      have := ih i (by simpa using hi)
      rw [show (i + 1) * 2 = i * 2 + 1 + 1 by omega]
      simpa using this

theorem laneCells_one (l : List Lane) : ∀ u ∈ laneCells l, u.oneCell' = true := by
  intro u hu
  simp only [laneCells, List.mem_flatMap] at hu
  obtain ⟨f, _, hf⟩ := hu
  simp at hf
  rcases hf with rfl | rfl <;> rfl

theorem laneCells_set (l : List Lane) (x y : Int) : ∀ k, k < l.length → ((laneCells l).set (k * 2) (.int .i64 x)).set (k * 2 + 1) (.int .i64 y) = laneCells (l.set k (x, y)) := by
  induction l with
  | nil => intro k hk; simp at hk
  | cons f fs ih =>
    intro k hk
    rw [laneCells_cons]
    cases k with
    | zero => rfl
    | succ k =>
      rw [show (k + 1) * 2 = k * 2 + 1 + 1 by omega]
      have := ih k (by simpa using hk)
      simp only [List.set_cons_succ]
      rw [this]
      rfl

/-- A number of 64 bits. -/
def i64b (x : Int) : Prop := -9223372036854775808 ≤ x ∧ x ≤ 9223372036854775807

/-- The slice (a, n) holds the lanes l in the world w. -/
def Lanes (w : World) (a : Option Addr) (n : Nat) (l : List Lane) : Prop :=
  l.length = n ∧ (∀ s ∈ l, i64b s.1 ∧ i64b s.2) ∧
  (n = 0 ∨ ∃ b off, a = some ⟨b, off, none⟩ ∧ b < w.heap.size ∧ ∀ i (hi : i < l.length), w.cell? ⟨b, off + i * 2, none⟩ = some (.int .i64 (l[i]).1) ∧ w.cell? ⟨b, off + i * 2 + 1, none⟩ = some (.int .i64 (l[i]).2))

theorem Lanes.below {w w' : World} {a : Option Addr} {n : Nat} {l : List Lane} (h : Lanes w a n l) (hb : Below w.heap.size w w') : Lanes w' a n l := by
  obtain ⟨h1, h2, h3⟩ := h
  refine ⟨h1, h2, ?_⟩
  rcases h3 with h0 | ⟨b, off, ha, hlt, hc⟩
  · exact .inl h0
  · exact .inr ⟨b, off, ha, Nat.lt_of_lt_of_le hlt hb.size, fun i hi => ⟨(hb.cell (p := ⟨b, off + i * 2, none⟩) hlt).trans (hc i hi).1, (hb.cell (p := ⟨b, off + i * 2 + 1, none⟩) hlt).trans (hc i hi).2⟩⟩

/-- The cells at one index. -/
theorem Lanes.at {w : World} {a : Option Addr} {n : Nat} {l : List Lane} (h : Lanes w a n l) {k : Nat} (hk : k < n) : ∃ b off x y, a = some ⟨b, off, none⟩ ∧ b < w.heap.size ∧ l[k]? = some (x, y) ∧ w.cell? ⟨b, off + k * 2, none⟩ = some (.int .i64 x) ∧ w.cell? ⟨b, off + k * 2 + 1, none⟩ = some (.int .i64 y) ∧ i64b x ∧ i64b y := by
  obtain ⟨h1, h2, h3⟩ := h
  rcases h3 with h0 | ⟨b, off, ha, hlt, hc⟩
  · omega
  · have hk' : k < l.length := by omega
    have hm := h2 (l[k]) (List.getElem_mem hk')
    exact ⟨b, off, (l[k]).1, (l[k]).2, ha, hlt, List.getElem?_eq_getElem hk', (hc k hk').1, (hc k hk').2, hm.1, hm.2⟩

/-- A slice value that owns these lanes, in a block from base on. -/
def OwnL (w : World) (base : Nat) (a : Option Addr) (n cap : Nat) (l : List Lane) : Prop := w.ownsRow base 47 2 (.slice a n cap) n (laneCells l) ∧ ∀ s ∈ l, i64b s.1 ∧ i64b s.2

theorem OwnL.len {w : World} {base n cap : Nat} {a : Option Addr} {l : List Lane} (h : OwnL w base a n cap l) : l.length = n := by
  have := h.1.1
  rw [laneCells_len] at this
  omega

theorem OwnL.below {w w' : World} {base n cap : Nat} {a : Option Addr} {l : List Lane} (h : OwnL w base a n cap l) (hb : Below w.heap.size w w') : OwnL w' base a n cap l := ⟨own_below h.1 hb, h.2⟩

theorem OwnL.lanes {w : World} {base n cap : Nat} {a : Option Addr} {l : List Lane} (h : OwnL w base a n cap l) : Lanes w a n l := by
  have hl := h.len
  refine ⟨hl, h.2, ?_⟩
  rcases h.1.2 with ⟨_, hn⟩ | ⟨g, cap', cur, he, hb, hg, hn, hm, hc, ht⟩
  · exact .inl hn
  · injection he with e1 e2 e3
    subst e1
    refine .inr ⟨g, 0, rfl, (Array.getElem?_eq_some_iff.1 hg).1, fun i hi => ?_⟩
    have hi' : i < n := by omega
    have hget : ∀ j, j < n * 2 → w.cell? ⟨g, j, none⟩ = (laneCells l)[j]? := by
      intro j hj
      rw [cell_of_row w g j cur _ (0, 0) hg, ← ht, List.getElem?_take, if_pos hj, Array.getElem?_toList]
    have := laneCells_at l i hi
    rw [Nat.zero_add, hget (i * 2) (by omega), hget (i * 2 + 1) (by omega)]
    exact this

theorem OwnL.lt {w : World} {base n cap : Nat} {a : Option Addr} {l : List Lane} (h : OwnL w base a n cap l) : ∀ k, a.map (·.block) = some k → base ≤ k ∧ k < w.heap.size := by
  intro k hk
  cases a with
  | none => simp at hk
  | some p => exact h.1.lt k (by simpa [Value.ownBlock] using hk)

theorem OwnL.kept {w w' : World} {base n cap : Nat} {a : Option Addr} {l : List Lane} {r : Option Nat} (h : OwnL w base a n cap l) (hg : w.grownBy w' r) (hr : ∀ k, r = some k → a.map (·.block) ≠ some k) : OwnL w' base a n cap l := by
  refine ⟨h.1.kept hg ?_, h.2⟩
  cases a with
  | none => exact .inl rfl
  | some p =>
    refine .inr ?_
    cases r with
    | none => simp [Value.ownBlock]
    | some k => have := hr k rfl; simpa [Value.ownBlock] using this

theorem made_pair (v : Value) (n : Nat) : (madeCells #[v, v] n).toList = List.replicate n v := by
  apply List.ext_getElem?
  intro j
  by_cases hj : j < n
  · have : j % 2 = 0 ∨ j % 2 = 1 := by omega
    rcases this with h | h <;> simp [madeCells, hj, h]
  · simp [madeCells, hj]

theorem laneCells_nil (n : Nat) : laneCells (List.replicate n (0, 0)) = List.replicate (n * 2) (.int .i64 0) := by
  induction n with
  | zero => rfl
  | succ n ih =>
    rw [show (n + 1) * 2 = n * 2 + 1 + 1 by omega, List.replicate_succ, List.replicate_succ, List.replicate_succ, ← ih]
    rfl

/-- A row that is copied up to k. -/
def laneTo (l : List Lane) (len k : Nat) : List Lane := l.take k ++ List.replicate (len - k) (0, 0)

theorem laneTo_step (l : List Lane) (len k : Nat) (x y : Int) (h : l[k]? = some (x, y)) (hk : k < len) : (laneTo l len k).set k (x, y) = laneTo l len (k + 1) := by
  have hl : k < l.length := (List.getElem?_eq_some_iff.1 h).1
  have ht : (l.take k).length = k := by simp; omega
  rw [laneTo, laneTo, List.set_append_right k _ (by omega), ht, Nat.sub_self, List.take_add_one, h, show len - k = (len - (k + 1)) + 1 by omega, List.replicate_succ]
  simp

theorem laneTo_len (l : List Lane) (len k : Nat) (h : l.length = len) (hk : k ≤ len) : (laneTo l len k).length = len := by
  simp [laneTo]; omega

theorem info_lane : (Try.prog.info? 47).map (fun i => (i.zero, i.size, i.bytes)) = some (some (.agg #[.int .i64 0, .int .i64 0]), 2, 16) := by kernel_rfl

end Go.Proofs.Ytkicfiacnpifkad
