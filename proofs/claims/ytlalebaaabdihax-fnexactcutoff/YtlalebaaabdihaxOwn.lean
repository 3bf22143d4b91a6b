/- Rows of bytes that a call has made, and what stays of them; no statement of the program but its table of types. -/
import Derived.Test.YtlalebaaabdihaxRows
import Derived.Test.YtlalebaaabdihaxBase
import Derived.Test.YtlalebaaabdihaxNums
import Derived.Test.YtlalebaaabdihaxPutNums
import Derived.Deep.QuietTactic
import Derived.BigQuiet
import Derived.Laws.CopyOwn
namespace Go.Proofs.Ytlalebaaabdihax
open Go.RowKit
set_option linter.unusedVariables false

theorem Try.info5 : (Try.prog.info? 5).map (fun i => (i.zero, i.size, i.bytes)) = some (some (.int .u8 0), 1, 1) := by kernel_rfl
theorem ret_int {k : IntKind} {a b : Int} (h : a = b) : Ending.returned (.int k a) = .returned (.int k b) := by rw [h]

/-- A slice value that owns its row: the bytes zs, in a row of the call's own from base on. -/
def Owns (w : World) (base : Nat) (a : Option Addr) (n cap : Nat) (zs : List Int) : Prop :=
  w.ownsRow base 5 1 (.slice a n cap) n (zs.map (Value.int .u8)) ∧ ∀ x ∈ zs, 0 ≤ x ∧ x ≤ 255

theorem Owns.seg {w : World} {base n cap : Nat} {a : Option Addr} {zs : List Int} (h : Owns w base a n cap zs) : Seg w a n zs := by
  obtain ⟨h1, h2⟩ := h
  rcases h1.2 with ⟨he, rfl⟩ | ⟨g, cap', cur, he, _⟩
  · have : zs = [] := by have := h1.1; simpa using this
    subst this
    exact ⟨rfl, by simp, .inl rfl⟩
  · simp only [Value.slice.injEq] at he
    obtain ⟨rfl, _, rfl⟩ := he
    exact Seg.ofOwn h1 h2

/-- Only the row of the slice value a may have turned. -/
def Only (w w' : World) (a : Option Addr) : Prop := w.grownBy w' (a.map (·.block))

theorem Owns.only {w w' : World} {base n cap : Nat} {a b : Option Addr} {zs : List Int} (h : Owns w base a n cap zs) (ho : Only w w' b) (hne : a = none ∨ a.map (·.block) ≠ b.map (·.block)) : Owns w' base a n cap zs := by
  refine ⟨h.1.kept ho ?_, h.2⟩
  rcases hne with rfl | hne
  · exact .inl rfl
  · cases a with
    | none => exact .inl rfl
    | some p => exact .inr hne

theorem Owns.below {w w' : World} {base n cap : Nat} {a : Option Addr} {zs : List Int} (h : Owns w base a n cap zs) (hb : Below w.heap.size w w') : Owns w' base a n cap zs := ⟨own_below h.1 hb, h.2⟩

theorem Owns.lt {w : World} {base n cap : Nat} {a : Option Addr} {zs : List Int} (h : Owns w base a n cap zs) : ∀ k, a.map (·.block) = some k → base ≤ k ∧ k < w.heap.size := by
  intro k hk
  cases a with
  | none => simp at hk
  | some p => exact h.1.lt k (by simpa [Value.ownBlock] using hk)

theorem Only.drewN {w w' : World} {a : Option Addr} (h : Only w w' a) (n : Nat) : Only w (w'.drewN n) a := ⟨h.os, h.tape, h.output, h.size, h.block⟩

theorem Only.below {w0 w w' : World} {B : Nat} {a : Option Addr} (h : Only w w' a) (h0 : Below B w0 w) (hB : B ≤ w.heap.size) (ha : ∀ k, a.map (·.block) = some k → B ≤ k) : Below B w0 w' := h0.grown h hB ha

/-- A world in which nothing but draws has come. -/
def Still (w w' : World) : Prop := ∃ n, w' = w.drewN n

theorem Still.seg {w w' : World} (h : Still w w') {a : Option Addr} {n : Nat} {zs : List Int} (hs : Seg w a n zs) : Seg w' a n zs := by
  obtain ⟨m, rfl⟩ := h
  exact hs

theorem Still.owns {w w' : World} (h : Still w w') {base n cap : Nat} {a : Option Addr} {zs : List Int} (hs : Owns w base a n cap zs) : Owns w' base a n cap zs := by
  obtain ⟨m, rfl⟩ := h
  exact hs

theorem Still.below {w0 w w' : World} (h : Still w w') {B : Nat} (hs : Below B w0 w) : Below B w0 w' := by
  obtain ⟨m, rfl⟩ := h
  exact below_drewN hs m

theorem Still.size {w w' : World} (h : Still w w') : w'.heap.size = w.heap.size := by
  obtain ⟨m, rfl⟩ := h
  rfl

theorem hidden {p : Prop} (h : p) : Hid p := h

theorem ret_bool {a b : Bool} (h : a = b) : Ending.returned (.bool a) = .returned (.bool b) := by rw [h]

theorem cells_ints {w : World} {b off len : Nat} {zs : List Int} (hs : Seg w (some ⟨b, off, none⟩) len zs) : ∀ j u, (zs.map (Value.int .u8))[j]? = some u → w.cell? ((⟨b, off, none⟩ : Addr).add j) = some u := by
  intro j u hu
  rw [List.getElem?_map] at hu
  have hj : j < zs.length := by
    by_cases h : j < zs.length
    · exact h
    · rw [List.getElem?_eq_none (by omega)] at hu; simp at hu
  rw [List.getElem?_eq_getElem hj] at hu
  simp only [Option.map_some, Option.some.injEq] at hu
  rcases hs.2.2 with h | ⟨b', off', he, _, hc⟩
  · have := hs.1; omega
  · simp only [Option.some.injEq, Addr.mk.injEq, and_true] at he
    obtain ⟨rfl, rfl⟩ := he
    have := hc j (by have := hs.1; omega)
    rw [List.getD_eq_getElem?_getD, List.getElem?_eq_getElem hj, Option.getD_some] at this
    by_cases h0 : j = 0
    · subst h0; simpa [Addr.add, hu] using this
    · simpa [Addr.add, h0, hu] using this

theorem ints_one (zs : List Int) : ∀ u ∈ zs.map (Value.int .u8), u.oneCell' = true := by
  intro u hu
  simp only [List.mem_map] at hu
  obtain ⟨x, _, rfl⟩ := hu
  rfl

theorem one_new (w : World) (x : Int) : ∀ j u, [Value.int .u8 x][j]? = some u → (w.alloc (.cells #[.int .u8 x] 5)).cell? ((⟨w.heap.size, 0, none⟩ : Addr).add j) = some u := by
  intro j u hj
  match j, hj with
  | 0, hj => simp at hj; subst hj; simp [Addr.add]

theorem shape_of_owns {w : World} {base n : Nat} {v : Value} {xs : List Value} (h : w.ownsRow base 5 1 v n xs) : ∃ a cap, v = .slice a n cap := by
  rcases h.2 with ⟨rfl, rfl⟩ | ⟨g, cap, cur, rfl, _⟩
  · exact ⟨_, _, rfl⟩
  · exact ⟨_, _, rfl⟩

end Go.Proofs.Ytlalebaaabdihax
