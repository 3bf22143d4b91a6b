/- Small facts on rows of bytes and on the test of a range; no condition. -/
import Derived.Test.YtkoeahopfajblajMark
import Derived.Test.YtkoeahopfajblajPutNums
import Derived.Laws.CopyOwn
namespace Go.Proofs.Ytkoeahopfajblaj
open Go.RowKit
set_option linter.unusedVariables false

theorem hidden {p : Prop} (h : p) : Hid p := h

theorem ret_bool {a b : Bool} (h : a = b) : Ending.returned (.bool a) = .returned (.bool b) := by rw [h]

theorem cells_ints {w : World} {b off len : Nat} {zs : List Int} (hs : Seg w (some ⟨b, off, none⟩) len zs) : ∀ j u, (zs.map (Value.int .u8))[j]? = some u → w.cell? ((⟨b, off, none⟩ : Addr).add j) = some u := by
  intro j u hu
  rw [List.getElem?_map] at hu
  have hj : j < zs.length := by
    by_cases h : j < zs.length
    · exact h
    · rw [List.getElem?_eq_none (by omega)] at hu; simp at hu
  rw [List.getElem?_eq_getElem hj] at hu
  simp only [Option.map_some, Option.some.injEq] at hu
  rcases hs.2.2 with h | ⟨b', off', he, _, hc⟩
  · have := hs.1; omega
  · simp only [Option.some.injEq, Addr.mk.injEq, and_true] at he
    obtain ⟨rfl, rfl⟩ := he
    have := hc j (by have := hs.1; omega)
    rw [List.getD_eq_getElem?_getD, List.getElem?_eq_getElem hj, Option.getD_some] at this
    by_cases h0 : j = 0
    · subst h0; simpa [Addr.add, hu] using this
    · simpa [Addr.add, h0, hu] using this

theorem ints_one (zs : List Int) : ∀ u ∈ zs.map (Value.int .u8), u.oneCell' = true := by
  intro u hu
  simp only [List.mem_map] at hu
  obtain ⟨x, _, rfl⟩ := hu
  rfl

theorem one_new (w : World) (x : Int) : ∀ j u, [Value.int .u8 x][j]? = some u → (w.alloc (.cells #[.int .u8 x] 5)).cell? ((⟨w.heap.size, 0, none⟩ : Addr).add j) = some u := by
  intro j u hj
  match j, hj with
  | 0, hj => simp at hj; subst hj; simp [Addr.add]

theorem shape_of_owns {w : World} {base n : Nat} {v : Value} {xs : List Value} (h : w.ownsRow base 5 1 v n xs) : ∃ a cap, v = .slice a n cap := by
  rcases h.2 with ⟨rfl, rfl⟩ | ⟨g, cap, cur, rfl, _⟩
  · exact ⟨_, _, rfl⟩
  · exact ⟨_, _, rfl⟩

end Go.Proofs.Ytkoeahopfajblaj
