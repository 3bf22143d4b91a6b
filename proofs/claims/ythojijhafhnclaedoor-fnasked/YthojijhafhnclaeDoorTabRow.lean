/- Rows of fields that are made and filled. -/
import Derived.Test.YthojijhafhnclaeDoorTiny
import Derived.Test.YthojijhafhnclaeDoorTabs
import Derived.Deep.QuietTactic
namespace Go.Proofs.YthojijhafhnclaeDoor
open Go.RowKit
set_option linter.unusedVariables false

theorem made_two (v : Value) (n : Nat) : (madeCells #[v, v] n).toList = List.replicate n v := by
  apply List.ext_getElem?
  intro j
  by_cases hj : j < n
  · have : j % 2 = 0 ∨ j % 2 = 1 := by omega
    rcases this with h | h <;> simp [madeCells, hj, h]
  · simp [madeCells, hj]

abbrev fnil : Fld := (⟨#[]⟩, ⟨#[]⟩)

theorem fieldCells_nil (n : Nat) : fieldCells (List.replicate n fnil) = List.replicate (n * 2) (.string ⟨#[]⟩) := by
  induction n with
  | zero => rfl
  | succ n ih =>
    rw [show (n + 1) * 2 = n * 2 + 1 + 1 by omega, List.replicate_succ, List.replicate_succ, List.replicate_succ, ← ih]
    rfl

theorem fieldCells_set (fs : List Fld) (x y : ByteArray) : ∀ k, k < fs.length → ((fieldCells fs).set (k * 2) (.string x)).set (k * 2 + 1) (.string y) = fieldCells (fs.set k (x, y)) := by
  induction fs with
  | nil => intro k hk; simp at hk
  | cons f fs ih =>
    intro k hk
    have e : fieldCells (f :: fs) = .string f.1 :: .string f.2 :: fieldCells fs := rfl
    rw [e]
    cases k with
    | zero => rfl
    | succ k =>
      rw [show (k + 1) * 2 = k * 2 + 1 + 1 by omega]
      have := ih k (by simpa using hk)
      simp only [List.set_cons_succ]
      rw [this]
      rfl

/-- A row that is copied up to k. -/
def rowTo (xs : List Fld) (len k : Nat) : List Fld := xs.take k ++ List.replicate (len - k) fnil

theorem rowTo_step (xs : List Fld) (len k : Nat) (x y : ByteArray) (h : xs[k]? = some (x, y)) (hk : k < len) : (rowTo xs len k).set k (x, y) = rowTo xs len (k + 1) := by
  have hl : k < xs.length := (List.getElem?_eq_some_iff.1 h).1
  have ht : (xs.take k).length = k := by simp; omega
  rw [rowTo, rowTo, List.set_append_right k _ (by omega), ht, Nat.sub_self, List.take_add_one, h, show len - k = (len - (k + 1)) + 1 by omega, List.replicate_succ]
  simp

theorem rowTo_len (xs : List Fld) (len k : Nat) (h : xs.length = len) (hk : k ≤ len) : (rowTo xs len k).length = len := by
  simp [rowTo]; omega

theorem info_field : (Tryd.prog.info? 38).map (fun i => (i.zero, i.size, i.bytes)) = some (some (.agg #[.string ⟨#[]⟩, .string ⟨#[]⟩]), 2, 32) := by kernel_rfl

theorem Flds.other {w : World} {g n : Nat} {fs : List Fld} (h : Flds w (some ⟨g, 0, none⟩) n fs) {p : Addr} (hp : g ≠ p.block) (v : Value) : Flds (w.setCell p v) (some ⟨g, 0, none⟩) n fs := by
  obtain ⟨h1, h2, h3⟩ := h
  refine ⟨h1, h2, ?_⟩
  rcases h3 with h0 | ⟨b, off, ha, hlt, hc⟩
  · exact .inl h0
  · have hb : b = g := by simp at ha; omega
    subst hb
    have hs : (w.setCell p v).heap[b]? = w.heap[b]? := Below.heap_setCell w p v b hp
    exact .inr ⟨b, off, ha, Nat.lt_of_lt_of_le hlt ((Below.refl 0 w).setCell (Nat.zero_le _) v).size, fun i hi => ⟨(World.cell?_of_block (w := w) (a := ⟨b, _, none⟩) hs).trans (hc i hi).1, (World.cell?_of_block (w := w) (a := ⟨b, _, none⟩) hs).trans (hc i hi).2⟩⟩

end Go.Proofs.YthojijhafhnclaeDoor
