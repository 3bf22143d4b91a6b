/- Fields: a name and a value; rows of fields in memory; the first fields. No program in it. -/
import Derived.Test.YtlalebaaabdihagDoorBase
namespace Go.Proofs.YtlalebaaabdihagDoor
open Go.RowKit
set_option linter.unusedVariables false

abbrev Fld := ByteArray × ByteArray

/-- The cells of a row of fields. -/
def fieldCells (fs : List Fld) : List Value := fs.flatMap fun f => [.string f.1, .string f.2]

theorem fieldCells_len (fs : List Fld) : (fieldCells fs).length = 2 * fs.length := by
  induction fs with
  | nil => rfl
  | cons f fs ih => simp only [fieldCells, List.flatMap_cons, List.length_append, List.length_cons, List.length_nil] at ih ⊢; omega

theorem fieldCells_at (fs : List Fld) : ∀ i (hi : i < fs.length), (fieldCells fs)[2 * i]? = some (.string (fs[i]).1) ∧ (fieldCells fs)[2 * i + 1]? = some (.string (fs[i]).2) := by
  induction fs with
  | nil => intro i hi; simp at hi
  | cons f fs ih =>
    intro i hi
    have e : fieldCells (f :: fs) = .string f.1 :: .string f.2 :: fieldCells fs := rfl
    rw [e]
    cases i with
    | zero => simp
    | succ i =>
      have h2 : 2 * (i + 1) = 2 * i + 1 + 1 := by omega
      have := ih i (by simpa using hi)
      rw [h2]
      simpa using this

/-- The slice (a, n) holds the fields fs in the world w. -/
def Flds (w : World) (a : Option Addr) (n : Nat) (fs : List Fld) : Prop :=
  fs.length = n ∧ (∀ f ∈ fs, f.1.size ≤ maxLen ∧ f.2.size ≤ maxLen) ∧
  (n = 0 ∨ ∃ b off, a = some ⟨b, off, none⟩ ∧ b < w.heap.size ∧ ∀ i (hi : i < fs.length), w.cell? ⟨b, off + i * 2, none⟩ = some (.string (fs[i]).1) ∧ w.cell? ⟨b, off + i * 2 + 1, none⟩ = some (.string (fs[i]).2))

theorem Flds.below {w w' : World} {a : Option Addr} {n : Nat} {fs : List Fld} (h : Flds w a n fs) (hb : Below w.heap.size w w') : Flds w' a n fs := by
  obtain ⟨h1, h2, h3⟩ := h
  refine ⟨h1, h2, ?_⟩
  rcases h3 with h0 | ⟨b, off, ha, hlt, hc⟩
  · exact .inl h0
  · exact .inr ⟨b, off, ha, Nat.lt_of_lt_of_le hlt hb.size, fun i hi => ⟨(hb.cell (p := ⟨b, off + i * 2, none⟩) hlt).trans (hc i hi).1, (hb.cell (p := ⟨b, off + i * 2 + 1, none⟩) hlt).trans (hc i hi).2⟩⟩

/-- A row of fields from its block. -/
theorem Flds.ofRow {w : World} {g : Nat} {t : TypeId} {fs : List Fld} (h : w.heap[g]? = some (.cells (fieldCells fs).toArray t (0, 0))) (hs : ∀ f ∈ fs, f.1.size ≤ maxLen ∧ f.2.size ≤ maxLen) : Flds w (some ⟨g, 0, none⟩) fs.length fs := by
  refine ⟨rfl, hs, .inr ⟨g, 0, rfl, (Array.getElem?_eq_some_iff.1 h).1, fun i hi => ?_⟩⟩
  have := fieldCells_at fs i hi
  rw [Nat.mul_comm 2 i] at this
  rw [cell_of_row w g _ _ t (0, 0) h, cell_of_row w g _ _ t (0, 0) h, Nat.zero_add]
  simpa using this

/-- The cells at one index. -/
theorem Flds.at {w : World} {a : Option Addr} {n : Nat} {fs : List Fld} (h : Flds w a n fs) {k : Nat} (hk : k < n) : ∃ b off x y, a = some ⟨b, off, none⟩ ∧ b < w.heap.size ∧ fs[k]? = some (x, y) ∧ w.cell? ⟨b, off + k * 2, none⟩ = some (.string x) ∧ w.cell? ⟨b, off + k * 2 + 1, none⟩ = some (.string y) := by
  obtain ⟨h1, h2, h3⟩ := h
  rcases h3 with h0 | ⟨b, off, ha, hlt, hc⟩
  · omega
  · have hk' : k < fs.length := by omega
    exact ⟨b, off, (fs[k]).1, (fs[k]).2, ha, hlt, List.getElem?_eq_getElem hk', (hc k hk').1, (hc k hk').2⟩

/-- The first fields. -/
def firstL : List Fld := [
  (⟨#[58, 97, 117, 116, 104, 111, 114, 105, 116, 121]⟩, ⟨#[]⟩),
  (⟨#[58, 109, 101, 116, 104, 111, 100]⟩, ⟨#[71, 69, 84]⟩),
  (⟨#[58, 109, 101, 116, 104, 111, 100]⟩, ⟨#[80, 79, 83, 84]⟩),
  (⟨#[58, 112, 97, 116, 104]⟩, ⟨#[47]⟩),
  (⟨#[58, 112, 97, 116, 104]⟩, ⟨#[47, 105, 110, 100, 101, 120, 46, 104, 116, 109, 108]⟩),
  (⟨#[58, 115, 99, 104, 101, 109, 101]⟩, ⟨#[104, 116, 116, 112]⟩),
  (⟨#[58, 115, 99, 104, 101, 109, 101]⟩, ⟨#[104, 116, 116, 112, 115]⟩),
  (⟨#[58, 115, 116, 97, 116, 117, 115]⟩, ⟨#[50, 48, 48]⟩),
  (⟨#[58, 115, 116, 97, 116, 117, 115]⟩, ⟨#[50, 48, 52]⟩),
  (⟨#[58, 115, 116, 97, 116, 117, 115]⟩, ⟨#[50, 48, 54]⟩),
  (⟨#[58, 115, 116, 97, 116, 117, 115]⟩, ⟨#[51, 48, 52]⟩),
  (⟨#[58, 115, 116, 97, 116, 117, 115]⟩, ⟨#[52, 48, 48]⟩),
  (⟨#[58, 115, 116, 97, 116, 117, 115]⟩, ⟨#[52, 48, 52]⟩),
  (⟨#[58, 115, 116, 97, 116, 117, 115]⟩, ⟨#[53, 48, 48]⟩),
  (⟨#[97, 99, 99, 101, 112, 116, 45, 99, 104, 97, 114, 115, 101, 116]⟩, ⟨#[]⟩),
  (⟨#[97, 99, 99, 101, 112, 116, 45, 101, 110, 99, 111, 100, 105, 110, 103]⟩, ⟨#[103, 122, 105, 112, 44, 32, 100, 101, 102, 108, 97, 116, 101]⟩),
  (⟨#[97, 99, 99, 101, 112, 116, 45, 108, 97, 110, 103, 117, 97, 103, 101]⟩, ⟨#[]⟩),
  (⟨#[97, 99, 99, 101, 112, 116, 45, 114, 97, 110, 103, 101, 115]⟩, ⟨#[]⟩),
  (⟨#[97, 99, 99, 101, 112, 116]⟩, ⟨#[]⟩),
  (⟨#[97, 99, 99, 101, 115, 115, 45, 99, 111, 110, 116, 114, 111, 108, 45, 97, 108, 108, 111, 119, 45, 111, 114, 105, 103, 105, 110]⟩, ⟨#[]⟩),
  (⟨#[97, 103, 101]⟩, ⟨#[]⟩),
  (⟨#[97, 108, 108, 111, 119]⟩, ⟨#[]⟩),
  (⟨#[97, 117, 116, 104, 111, 114, 105, 122, 97, 116, 105, 111, 110]⟩, ⟨#[]⟩),
  (⟨#[99, 97, 99, 104, 101, 45, 99, 111, 110, 116, 114, 111, 108]⟩, ⟨#[]⟩),
  (⟨#[99, 111, 110, 116, 101, 110, 116, 45, 100, 105, 115, 112, 111, 115, 105, 116, 105, 111, 110]⟩, ⟨#[]⟩),
  (⟨#[99, 111, 110, 116, 101, 110, 116, 45, 101, 110, 99, 111, 100, 105, 110, 103]⟩, ⟨#[]⟩),
  (⟨#[99, 111, 110, 116, 101, 110, 116, 45, 108, 97, 110, 103, 117, 97, 103, 101]⟩, ⟨#[]⟩),
  (⟨#[99, 111, 110, 116, 101, 110, 116, 45, 108, 101, 110, 103, 116, 104]⟩, ⟨#[]⟩),
  (⟨#[99, 111, 110, 116, 101, 110, 116, 45, 108, 111, 99, 97, 116, 105, 111, 110]⟩, ⟨#[]⟩),
  (⟨#[99, 111, 110, 116, 101, 110, 116, 45, 114, 97, 110, 103, 101]⟩, ⟨#[]⟩),
  (⟨#[99, 111, 110, 116, 101, 110, 116, 45, 116, 121, 112, 101]⟩, ⟨#[]⟩),
  (⟨#[99, 111, 111, 107, 105, 101]⟩, ⟨#[]⟩),
  (⟨#[100, 97, 116, 101]⟩, ⟨#[]⟩),
  (⟨#[101, 116, 97, 103]⟩, ⟨#[]⟩),
  (⟨#[101, 120, 112, 101, 99, 116]⟩, ⟨#[]⟩),
  (⟨#[101, 120, 112, 105, 114, 101, 115]⟩, ⟨#[]⟩),
  (⟨#[102, 114, 111, 109]⟩, ⟨#[]⟩),
  (⟨#[104, 111, 115, 116]⟩, ⟨#[]⟩),
  (⟨#[105, 102, 45, 109, 97, 116, 99, 104]⟩, ⟨#[]⟩),
  (⟨#[105, 102, 45, 109, 111, 100, 105, 102, 105, 101, 100, 45, 115, 105, 110, 99, 101]⟩, ⟨#[]⟩),
  (⟨#[105, 102, 45, 110, 111, 110, 101, 45, 109, 97, 116, 99, 104]⟩, ⟨#[]⟩),
  (⟨#[105, 102, 45, 114, 97, 110, 103, 101]⟩, ⟨#[]⟩),
  (⟨#[105, 102, 45, 117, 110, 109, 111, 100, 105, 102, 105, 101, 100, 45, 115, 105, 110, 99, 101]⟩, ⟨#[]⟩),
  (⟨#[108, 97, 115, 116, 45, 109, 111, 100, 105, 102, 105, 101, 100]⟩, ⟨#[]⟩),
  (⟨#[108, 105, 110, 107]⟩, ⟨#[]⟩),
  (⟨#[108, 111, 99, 97, 116, 105, 111, 110]⟩, ⟨#[]⟩),
  (⟨#[109, 97, 120, 45, 102, 111, 114, 119, 97, 114, 100, 115]⟩, ⟨#[]⟩),
  (⟨#[112, 114, 111, 120, 121, 45, 97, 117, 116, 104, 101, 110, 116, 105, 99, 97, 116, 101]⟩, ⟨#[]⟩),
  (⟨#[112, 114, 111, 120, 121, 45, 97, 117, 116, 104, 111, 114, 105, 122, 97, 116, 105, 111, 110]⟩, ⟨#[]⟩),
  (⟨#[114, 97, 110, 103, 101]⟩, ⟨#[]⟩),
  (⟨#[114, 101, 102, 101, 114, 101, 114]⟩, ⟨#[]⟩),
  (⟨#[114, 101, 102, 114, 101, 115, 104]⟩, ⟨#[]⟩),
  (⟨#[114, 101, 116, 114, 121, 45, 97, 102, 116, 101, 114]⟩, ⟨#[]⟩),
  (⟨#[115, 101, 114, 118, 101, 114]⟩, ⟨#[]⟩),
  (⟨#[115, 101, 116, 45, 99, 111, 111, 107, 105, 101]⟩, ⟨#[]⟩),
  (⟨#[115, 116, 114, 105, 99, 116, 45, 116, 114, 97, 110, 115, 112, 111, 114, 116, 45, 115, 101, 99, 117, 114, 105, 116, 121]⟩, ⟨#[]⟩),
  (⟨#[116, 114, 97, 110, 115, 102, 101, 114, 45, 101, 110, 99, 111, 100, 105, 110, 103]⟩, ⟨#[]⟩),
  (⟨#[117, 115, 101, 114, 45, 97, 103, 101, 110, 116]⟩, ⟨#[]⟩),
  (⟨#[118, 97, 114, 121]⟩, ⟨#[]⟩),
  (⟨#[118, 105, 97]⟩, ⟨#[]⟩),
  (⟨#[119, 119, 119, 45, 97, 117, 116, 104, 101, 110, 116, 105, 99, 97, 116, 101]⟩, ⟨#[]⟩)]

theorem firstL_len : firstL.length = 61 := by decide +kernel
set_option maxRecDepth 100000 in
theorem firstL_size : ∀ f ∈ firstL, f.1.size ≤ maxLen ∧ f.2.size ≤ maxLen := by decide +kernel

end Go.Proofs.YtlalebaaabdihagDoor
