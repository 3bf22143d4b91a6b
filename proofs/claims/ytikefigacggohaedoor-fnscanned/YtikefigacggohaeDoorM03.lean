/- Rows of texts and the block that they lie in. No program in it but its table of types. An answer that is a disk: its rows lie in memory from base on, and apart. No program in it. -/
import Derived.Test.YtikefigacggohaeDoorM02
import Derived.Test.YtikefigacggohaeDoorM02
import Derived.Deep.AppendSrc
namespace Go.Proofs.YtikefigacggohaeDoor
open Go.RowKit
set_option linter.unusedVariables false

/-- What lies behind a slice value, if it has a block. -/
def blkOf : Value → Option Nat
  | .slice (some p) _ _ => some p.block
  | _ => none

theorem OwnSt.low {w : World} {base lo n : Nat} {v : Value} {l : List ByteArray} (h : OwnSt w base v n l) (hl : lo ≤ base) : OwnSt w lo v n l := by
  refine ⟨⟨h.1.1, ?_⟩, h.2⟩
  rcases h.1.2 with h0 | ⟨g, cap, cur, he, hg, r⟩
  · exact .inl h0
  · exact .inr ⟨g, cap, cur, he, Nat.le_trans hl hg, r⟩

theorem OwnSt.lt {w : World} {base n : Nat} {v : Value} {l : List ByteArray} (h : OwnSt w base v n l) : ∀ q, blkOf v = some q → base ≤ q ∧ q < w.heap.size := by
  intro q hq
  rcases h.1.2 with ⟨rfl, _⟩ | ⟨g, cap, cur, rfl, hg, hh, _⟩
  · simp [blkOf] at hq
  · obtain rfl : g = q := by simpa [blkOf] using hq
    exact ⟨hg, (Array.getElem?_eq_some_iff.1 hh).1⟩

theorem OwnSt.kept {w w' : World} {base n : Nat} {v : Value} {l : List ByteArray} {r : Option Nat} (h : OwnSt w base v n l) (hg : w.grownBy w' r) (hr : ∀ q, r = some q → blkOf v ≠ some q) : OwnSt w' base v n l := by
  refine h.grown hg fun q hq p m c hv hne => hr q hq ?_
  rw [hv, ← hne]
  rfl

theorem OwnSt.setCell {w : World} {base n : Nat} {v : Value} {l : List ByteArray} (h : OwnSt w base v n l) {b k : Nat} (hb : blkOf v ≠ some b) (u : Value) : OwnSt (w.setCell ⟨b, k, none⟩ u) base v n l := by
  refine ⟨⟨h.1.1, ?_⟩, h.2⟩
  rcases h.1.2 with h0 | ⟨g, cap, cur, rfl, hg, hh, r⟩
  · exact .inl h0
  · exact .inr ⟨g, cap, cur, rfl, hg, (set_block_ne w g b k u (fun e => hb (by rw [blkOf, e]))).trans hh, r⟩

end Go.Proofs.YtikefigacggohaeDoor

namespace Go.Proofs.YtikefigacggohaeDoor
open Go.RowKit
set_option linter.unusedVariables false

def AnsD (base : Nat) (X Y : List ByteArray) (v : Value) (w' : World) : Prop :=
  ∃ A C A' C', v = .agg #[.slice A X.length C, .slice A' Y.length C'] ∧ OwnSt w' base (.slice A X.length C) X.length X ∧ OwnSt w' base (.slice A' Y.length C') Y.length Y ∧ ∀ q, A.map (·.block) = some q → A'.map (·.block) ≠ some q

theorem AnsD.mk' {base : Nat} {X Y : List ByteArray} {w' : World} {A A' : Option Addr} {n C n' C' : Nat} (hn : X.length = n) (hn' : Y.length = n') (h1 : OwnSt w' base (.slice A n C) n X) (h2 : OwnSt w' base (.slice A' n' C') n' Y) (hne : ∀ q, A.map (·.block) = some q → A'.map (·.block) ≠ some q) : AnsD base X Y (.agg #[.slice A n C, .slice A' n' C']) w' := by
  subst hn hn'
  exact ⟨A, C, A', C', rfl, h1, h2, hne⟩

/-- Texts as what is appended. -/
theorem Strs.src {w : World} {a : Option Addr} {n c : Nat} {l : List ByteArray} (h : Strs w a n l) : Src Tryd.prog 1 52 (.slice a n c) n (scells l) w := by
  cases a with
  | none =>
    have h0 := h.none_nil rfl
    subst h0
    have : l = [] := List.eq_nil_of_length_eq_zero h.1
    subst this
    exact Src.ofNil _ Tryd.underlying52 c
  | some ad => exact Src.ofSlice _ Tryd.underlying52 ad n c _ (by rw [scells_len, h.1, Nat.mul_one]) (h.cells ad rfl) (scells_one l)

theorem cellD_kept {Y : World} {b b' i k : Nat} {v u : Value} (hne : b ≠ b') (h : Y.cell? ⟨b, i, none⟩ = some v) : (Y.setCell ⟨b', k, none⟩ u).cell? ⟨b, i, none⟩ = some v := by
  have e := set_block_ne Y b b' k u hne
  simp only [World.cell?] at h ⊢
  rw [e]
  exact h

end Go.Proofs.YtikefigacggohaeDoor
