/- Rows of texts in memory: what they hold, rows that a call has made. No statement of the program but its table of types. A variable of two cells: no program in it. Rows of texts and the block that they lie in. No program in it but its table of types. Rows of texts cut in two. No program in it but its table of types. A store in memory: its two rows of texts and its uploads, of a call's own. No program in it but its table of types. What is opened of a disk. Rows of records that a call has made: their cells, their bytes. No statement of the program but its table of types. The records of sectors are right, and their numbers fit; no program in it. How long the bytes of uploads come to be; no program in it. What is opened of a disk, said as one answer, and how great it may be; no program in it. -/
import Derived.Test.YtlkgopoicpnacaaGreatDoorM04
import Derived.Deep.QuietTactic
import Derived.Test.YtlkgopoicpnacaaGreatDoorM01
import Derived.Test.YtlkgopoicpnacaaGreatDoorM03
import Derived.Test.YtlkgopoicpnacaaGreatDoorM02
namespace Go.Proofs.YtlkgopoicpnacaaGreatDoor
open Go.RowKit
set_option linter.unusedVariables false

/-- The cells of a row of texts. -/
def scells (l : List ByteArray) : List Value := l.map Value.string

theorem scells_len (l : List ByteArray) : (scells l).length = l.length := List.length_map ..

theorem scells_at (l : List ByteArray) (i : Nat) (hi : i < l.length) : (scells l)[i]? = some (.string (l[i])) := by
  simp [scells, hi]

theorem scells_append (l r : List ByteArray) : scells (l ++ r) = scells l ++ scells r := by simp [scells]

theorem scells_set (l : List ByteArray) (x : ByteArray) (k : Nat) : (scells l).set k (.string x) = scells (l.set k x) := by simp [scells, List.map_set]

theorem scells_one (l : List ByteArray) : ∀ u ∈ scells l, u.oneCell' = true := by
  intro u hu
  simp only [scells, List.mem_map] at hu
  obtain ⟨x, _, rfl⟩ := hu
  rfl

/-- The bytes of texts. -/
def strBytes (l : List ByteArray) : Nat := (l.map ByteArray.size).sum

theorem strBytes_step (l : List ByteArray) (k : Nat) (x : ByteArray) (h : l[k]? = some x) : strBytes (l.take (k + 1)) = strBytes (l.take k) + x.size := by
  rw [List.take_add_one, h]
  simp [strBytes]

theorem strBytes_mem (l : List ByteArray) (x : ByteArray) (h : x ∈ l) : x.size ≤ strBytes l := by
  induction l with
  | nil => cases h
  | cons y l ih =>
    have e : strBytes (y :: l) = y.size + strBytes l := by simp [strBytes]
    rcases List.mem_cons.1 h with rfl | h
    · omega
    · have := ih h
      omega

/-- The slice (a, n) holds the texts l in the world w. -/
def Strs (w : World) (a : Option Addr) (n : Nat) (l : List ByteArray) : Prop :=
  l.length = n ∧ (∀ x ∈ l, x.size ≤ maxLen) ∧
  (n = 0 ∨ ∃ b off, a = some ⟨b, off, none⟩ ∧ b < w.heap.size ∧ ∀ i (hi : i < l.length), w.cell? ⟨b, off + i, none⟩ = some (.string (l[i])))

theorem Strs.below {w w' : World} {a : Option Addr} {n : Nat} {l : List ByteArray} (h : Strs w a n l) (hb : Below w.heap.size w w') : Strs w' a n l := by
  obtain ⟨h1, h2, h3⟩ := h
  refine ⟨h1, h2, ?_⟩
  rcases h3 with h0 | ⟨b, off, ha, hlt, hc⟩
  · exact .inl h0
  · exact .inr ⟨b, off, ha, Nat.lt_of_lt_of_le hlt hb.size, fun i hi => (hb.cell (p := ⟨b, off + i, none⟩) hlt).trans (hc i hi)⟩

/-- The cell at one index. -/
theorem Strs.at {w : World} {a : Option Addr} {n : Nat} {l : List ByteArray} (h : Strs w a n l) {k : Nat} (hk : k < n) : ∃ b off x, a = some ⟨b, off, none⟩ ∧ b < w.heap.size ∧ l[k]? = some x ∧ w.cell? ⟨b, off + k, none⟩ = some (.string x) := by
  obtain ⟨h1, h2, h3⟩ := h
  rcases h3 with h0 | ⟨b, off, ha, hlt, hc⟩
  · omega
  · have hk' : k < l.length := by omega
    exact ⟨b, off, l[k], ha, hlt, List.getElem?_eq_getElem hk', hc k hk'⟩

theorem Strs.cells {w : World} {a : Option Addr} {n : Nat} {l : List ByteArray} (h : Strs w a n l) : ∀ ad, a = some ad → ∀ j u, (scells l)[j]? = some u → w.cell? (ad.add j) = some u := by
  intro ad ha j u hj
  have hjl : j < l.length := by
    rw [← scells_len]
    exact (List.getElem?_eq_some_iff.1 hj).1
  rcases h.2.2 with h0 | ⟨b, off, e, hb, hc⟩
  · have := h.1
    omega
  · rw [ha] at e
    injection e with e
    subst e
    have hadd : (⟨b, off, none⟩ : Addr).add j = ⟨b, off + j, none⟩ := by unfold Addr.add; split <;> simp_all
    rw [hadd, hc j hjl, ← scells_at l j hjl, hj]

theorem Strs.none_nil {w : World} {a : Option Addr} {n : Nat} {l : List ByteArray} (h : Strs w a n l) (ha : a = none) : n = 0 := by
  rcases h.2.2 with h0 | ⟨b, off, e, _⟩
  · exact h0
  · rw [ha] at e
    cases e

theorem Strs.nil (w : World) (a : Option Addr) : Strs w a 0 [] := ⟨rfl, by simp, .inl rfl⟩

/-- A slice value that owns these texts, in a block from base on. -/
def OwnSt (w : World) (base : Nat) (v : Value) (n : Nat) (l : List ByteArray) : Prop := w.ownsRow base 9 1 v n (scells l) ∧ ∀ x ∈ l, x.size ≤ maxLen

theorem OwnSt.len {w : World} {base n : Nat} {v : Value} {l : List ByteArray} (h : OwnSt w base v n l) : l.length = n := by
  have := h.1.1
  rw [scells_len] at this
  omega

theorem OwnSt.shape {w : World} {base n : Nat} {v : Value} {l : List ByteArray} (h : OwnSt w base v n l) : ∃ a cap, v = .slice a n cap := by
  rcases h.1.2 with ⟨rfl, rfl⟩ | ⟨g, cap, cur, rfl, _⟩
  · exact ⟨_, _, rfl⟩
  · exact ⟨_, _, rfl⟩

theorem OwnSt.strs {w : World} {base n cap : Nat} {a : Option Addr} {l : List ByteArray} (h : OwnSt w base (.slice a n cap) n l) : Strs w a n l := by
  have hl := h.len
  refine ⟨hl, h.2, ?_⟩
  rcases h.1.2 with ⟨_, hn⟩ | ⟨g, cap', cur, he, hb, hg, hn, hm, hc, ht⟩
  · exact .inl hn
  · injection he with e1 e2 e3
    subst e1
    refine .inr ⟨g, 0, rfl, (Array.getElem?_eq_some_iff.1 hg).1, fun i hi => ?_⟩
    have hi' : i < n := by omega
    rw [Nat.zero_add, cell_of_row w g i cur _ (0, 0) hg, ← scells_at l i hi, ← ht, List.getElem?_take, if_pos (by omega), Array.getElem?_toList]

theorem OwnSt.below {w w' : World} {base n : Nat} {v : Value} {l : List ByteArray} (h : OwnSt w base v n l) (hb : Below w.heap.size w w') : OwnSt w' base v n l := by
  refine ⟨⟨h.1.1, ?_⟩, h.2⟩
  rcases h.1.2 with h0 | ⟨g, cap, cur, he, hg, hh, r⟩
  · exact .inl h0
  · exact .inr ⟨g, cap, cur, he, hg, (hb.block g (Array.getElem?_eq_some_iff.1 hh).1).trans hh, r⟩

theorem OwnSt.grown {w w' : World} {base n : Nat} {v : Value} {l : List ByteArray} {r : Option Nat} (h : OwnSt w base v n l) (hg : w.grownBy w' r) (hr : ∀ q, r = some q → ∀ p m c, v = .slice (some p) m c → p.block ≠ q) : OwnSt w' base v n l := by
  refine ⟨⟨h.1.1, ?_⟩, h.2⟩
  rcases h.1.2 with h0 | ⟨g, cap, cur, he, hgb, hh, rest⟩
  · exact .inl h0
  · refine .inr ⟨g, cap, cur, he, hgb, (hg.block g (Array.getElem?_eq_some_iff.1 hh).1 ?_).trans hh, rest⟩
    intro e
    exact hr g e.symm _ _ _ he rfl

theorem info_string : (Tryz.prog.info? 9).map (fun i => (i.zero, i.size, i.bytes)) = some (some (.string ⟨#[]⟩), 1, 16) := by kernel_rfl

/-- A row that is copied up to k. -/
def srowTo (l : List ByteArray) (len k : Nat) : List ByteArray := l.take k ++ List.replicate (len - k) ⟨#[]⟩

theorem srowTo_step (l : List ByteArray) (len k : Nat) (x : ByteArray) (h : l[k]? = some x) (hk : k < len) : (srowTo l len k).set k x = srowTo l len (k + 1) := by
  have hl : k < l.length := (List.getElem?_eq_some_iff.1 h).1
  have ht : (l.take k).length = k := by simp; omega
  rw [srowTo, srowTo, List.set_append_right k _ (by omega), ht, Nat.sub_self, List.take_add_one, h, show len - k = (len - (k + 1)) + 1 by omega, List.replicate_succ]
  simp

theorem srowTo_len (l : List ByteArray) (len k : Nat) (h : l.length = len) (hk : k ≤ len) : (srowTo l len k).length = len := by
  simp [srowTo]; omega

end Go.Proofs.YtlkgopoicpnacaaGreatDoor

namespace Go.Proofs.YtlkgopoicpnacaaGreatDoor
open Go.RowKit
set_option linter.unusedVariables false

/-- The block holds a variable of two cells. -/
def Box2R (W : World) (b : Nat) (t : TypeId) (x y : Value) : Prop := W.heap[b]? = some (.cells #[x, y] t (0, 0))

theorem Box2R.lt {W : World} {b : Nat} {t : TypeId} {x y : Value} (h : Box2R W b t x y) : b < W.heap.size := (Array.getElem?_eq_some_iff.1 h).1

theorem Box2R.stays {W W' : World} {b : Nat} {t : TypeId} {x y : Value} (h : Box2R W b t x y) (hb : Below W.heap.size W W') : Box2R W' b t x y := (hb.block b h.lt).trans h

theorem Box2R.alloc {W : World} {b : Nat} {t : TypeId} {x y : Value} (h : Box2R W b t x y) (o : Obj) : Box2R (W.alloc o) b t x y := h.stays ((Below.refl _ _).alloc (Nat.le_refl _) _)

theorem Box2R.new (W : World) (t : TypeId) (x y : Value) : Box2R (W.alloc (.cells #[x, y] t)) W.heap.size t x y := heap_alloc_new W _

theorem Box2R.cells {W : World} {b : Nat} {t : TypeId} {x y : Value} (h : Box2R W b t x y) : W.cell? ⟨b, 0, none⟩ = some x ∧ W.cell? ⟨b, 1, none⟩ = some y := by
  have h' : W.heap[b]? = some (.cells #[x, y] t (0, 0)) := h
  exact ⟨by rw [cell_of_row _ _ _ _ _ _ h']; rfl, by rw [cell_of_row _ _ _ _ _ _ h']; rfl⟩

theorem Box2R.frozen {W : World} {b : Nat} {t : TypeId} {x y : Value} (h : Box2R W b t x y) (i : Nat) : W.frozen? ⟨b, i, none⟩ = false := by simp [World.frozen?, show W.heap[b]? = _ from h]

theorem Box2R.grown {W W' : World} {b : Nat} {t : TypeId} {x y : Value} {r : Option Nat} (h : Box2R W b t x y) (hg : W.grownBy W' r) (hr : r ≠ some b) : Box2R W' b t x y := (hg.block b h.lt (Ne.symm hr)).trans h

theorem Box2R.set0 {W : World} {b : Nat} {t : TypeId} {x y : Value} (h : Box2R W b t x y) (v : Value) : Box2R (W.setCell ⟨b, 0, none⟩ v) b t v y := by
  show (W.setCell ⟨b, 0, none⟩ v).heap[b]? = _
  rw [setCell_eq_setRow W b 0 _ t (0, 0) _ h, setRow_heap W b _ _ t (0, 0) h]
  rfl

theorem Box2R.set1 {W : World} {b : Nat} {t : TypeId} {x y : Value} (h : Box2R W b t x y) (v : Value) : Box2R (W.setCell ⟨b, 1, none⟩ v) b t x v := by
  show (W.setCell ⟨b, 1, none⟩ v).heap[b]? = _
  rw [setCell_eq_setRow W b 1 _ t (0, 0) _ h, setRow_heap W b _ _ t (0, 0) h]
  rfl

theorem Box2R.other {W : World} {b b' k : Nat} {t : TypeId} {x y : Value} (h : Box2R W b t x y) (hne : b ≠ b') (v : Value) : Box2R (W.setCell ⟨b', k, none⟩ v) b t x y := (set_block_ne W b b' k v hne).trans h

end Go.Proofs.YtlkgopoicpnacaaGreatDoor

namespace Go.Proofs.YtlkgopoicpnacaaGreatDoor
open Go.RowKit
set_option linter.unusedVariables false

/-- What lies behind a slice value, if it has a block. -/
def blkOf : Value → Option Nat
  | .slice (some p) _ _ => some p.block
  | _ => none

theorem OwnSt.low {w : World} {base lo n : Nat} {v : Value} {l : List ByteArray} (h : OwnSt w base v n l) (hl : lo ≤ base) : OwnSt w lo v n l := by
  refine ⟨⟨h.1.1, ?_⟩, h.2⟩
  rcases h.1.2 with h0 | ⟨g, cap, cur, he, hg, r⟩
  · exact .inl h0
  · exact .inr ⟨g, cap, cur, he, Nat.le_trans hl hg, r⟩

theorem OwnSt.lt {w : World} {base n : Nat} {v : Value} {l : List ByteArray} (h : OwnSt w base v n l) : ∀ q, blkOf v = some q → base ≤ q ∧ q < w.heap.size := by
  intro q hq
  rcases h.1.2 with ⟨rfl, _⟩ | ⟨g, cap, cur, rfl, hg, hh, _⟩
  · simp [blkOf] at hq
  · obtain rfl : g = q := by simpa [blkOf] using hq
    exact ⟨hg, (Array.getElem?_eq_some_iff.1 hh).1⟩

theorem OwnSt.kept {w w' : World} {base n : Nat} {v : Value} {l : List ByteArray} {r : Option Nat} (h : OwnSt w base v n l) (hg : w.grownBy w' r) (hr : ∀ q, r = some q → blkOf v ≠ some q) : OwnSt w' base v n l := by
  refine h.grown hg fun q hq p m c hv hne => hr q hq ?_
  rw [hv, ← hne]
  rfl

theorem OwnSt.setCell {w : World} {base n : Nat} {v : Value} {l : List ByteArray} (h : OwnSt w base v n l) {b k : Nat} (hb : blkOf v ≠ some b) (u : Value) : OwnSt (w.setCell ⟨b, k, none⟩ u) base v n l := by
  refine ⟨⟨h.1.1, ?_⟩, h.2⟩
  rcases h.1.2 with h0 | ⟨g, cap, cur, rfl, hg, hh, r⟩
  · exact .inl h0
  · exact .inr ⟨g, cap, cur, rfl, hg, (set_block_ne w g b k u (fun e => hb (by rw [blkOf, e]))).trans hh, r⟩

end Go.Proofs.YtlkgopoicpnacaaGreatDoor

namespace Go.Proofs.YtlkgopoicpnacaaGreatDoor
open Go.RowKit
set_option linter.unusedVariables false

/-- A slice value whose parts may be taken. -/
def SlOk (a : Option Addr) (n ca : Nat) : Prop := n ≤ ca ∧ ca ≤ maxLen ∧ ((a = none ∧ ca = 0) ∨ ∃ b off, a = some ⟨b, off, none⟩)

theorem OwnSt.sl {w : World} {base n ca : Nat} {a : Option Addr} {l : List ByteArray} (h : OwnSt w base (.slice a n ca) n l) : SlOk a n ca := by
  rcases h.1.2 with ⟨h0, h1⟩ | ⟨g, cap, cur, he, hb, hg, hn, hm, hc, ht⟩
  · injection h0 with e1 e2 e3
    subst e1 e2 e3
    exact ⟨Nat.le_refl _, Nat.zero_le _, .inl ⟨rfl, rfl⟩⟩
  · injection he with e1 e2 e3
    subst e1 e3
    exact ⟨hn, hm, .inr ⟨g, 0, rfl⟩⟩

theorem Strs.take {w : World} {a : Option Addr} {n : Nat} {l : List ByteArray} (h : Strs w a n l) {k : Nat} (hk : k ≤ n) : Strs w a k (l.take k) := by
  obtain ⟨h1, h2, h3⟩ := h
  refine ⟨by rw [List.length_take]; omega, fun s hs => h2 s (List.mem_of_mem_take hs), ?_⟩
  rcases h3 with h0 | ⟨b, off, ha, hlt, hc⟩
  · exact .inl (by omega)
  · by_cases hk0 : k = 0
    · exact .inl hk0
    · refine .inr ⟨b, off, ha, hlt, fun i hi => ?_⟩
      have hil : i < l.length := by rw [List.length_take] at hi; omega
      rw [List.getElem_take]
      exact hc i hil

theorem Strs.drop {w : World} {b off n : Nat} {l : List ByteArray} (h : Strs w (some ⟨b, off, none⟩) n l) {k : Nat} (hk : k ≤ n) : Strs w (some ⟨b, off + k, none⟩) (n - k) (l.drop k) := by
  obtain ⟨h1, h2, h3⟩ := h
  refine ⟨by rw [List.length_drop]; omega, fun s hs => h2 s (List.mem_of_mem_drop hs), ?_⟩
  rcases h3 with h0 | ⟨b', off', ha, hlt, hc⟩
  · exact .inl (by omega)
  · injection ha with ha
    injection ha with e1 e2
    subst e1 e2
    refine .inr ⟨b, off + k, rfl, hlt, fun i hi => ?_⟩
    have hil : k + i < l.length := by rw [List.length_drop] at hi; omega
    have := hc (k + i) hil
    rw [List.getElem_drop]
    rw [show off + k + i = off + (k + i) by omega]
    exact this

theorem Strs.gone {w : World} {a : Option Addr} {n : Nat} {l : List ByteArray} (h : Strs w a n l) (a' : Option Addr) {k : Nat} (hk : n ≤ k) : Strs w a' 0 (l.drop k) := by
  have : l.drop k = [] := List.drop_of_length_le (by have := h.1; omega)
  rw [this]
  exact ⟨rfl, by simp, .inl rfl⟩

end Go.Proofs.YtlkgopoicpnacaaGreatDoor

namespace Go.Proofs.YtlkgopoicpnacaaGreatDoor
open Go.RowKit
set_option linter.unusedVariables false

/-- Rows of different types do not lie in one block. -/
theorem rows_apart {W : World} {base base' n n' size size' : Nat} {e e' : TypeId} {v v' : Value} {xs xs' : List Value} (h : W.ownsRow base e size v n xs) (h' : W.ownsRow base' e' size' v' n' xs') (hne : e ≠ e') : ∀ q, v.ownBlock = some q → v'.ownBlock ≠ some q := by
  intro q hq hq'
  rcases h.2 with ⟨rfl, _⟩ | ⟨g, cap, cur, rfl, _, hg, _⟩
  · cases hq
  · rcases h'.2 with ⟨rfl, _⟩ | ⟨g', cap', cur', rfl, _, hg', _⟩
    · cases hq'
    · obtain rfl : g = q := by simpa [Value.ownBlock] using hq
      obtain rfl : g' = g := by simpa [Value.ownBlock] using hq'
      rw [hg] at hg'
      injection hg' with hg'
      injection hg' with _ h2 _
      exact hne h2

theorem blk_own (a : Option Addr) (n c : Nat) : blkOf (.slice a n c) = a.map (·.block) := by cases a <;> rfl

/-- Uploads are as they were where a row of texts is written. -/
theorem UpRow.keptS {W W' : World} {base base' n ca : Nat} {a : Option Addr} {v : Value} {l : List UE} {X : List ByteArray} (h : UpRow W base v l) (ho : OwnSt W base' (.slice a n ca) n X) (hg : W.grownBy W' (a.map (·.block))) : UpRow W' base v l := by
  have h9 : W.ownsRow base' 9 1 (.slice a n ca) n (scells X) := ho.1
  refine h.grown hg (fun q hq hq2 => ?_) (fun e he q hq hq2 => ?_)
  · exact rows_apart h9 h.1 (by decide) q (by rw [ownBlock_sU]; exact hq) hq2
  · exact rows_apart h9 (h.2.1 e he).1 (by decide) q (by rw [ownBlock_sU]; exact hq) (by rw [ownBlock_sU]; exact hq2)

/-- Texts are as they were where blocks of another type are written. -/
theorem OwnSt.keptR {W W' : World} {base base' n m ca size : Nat} {a : Option Addr} {e : TypeId} {v : Value} {xs : List Value} {X : List ByteArray} (ho : OwnSt W base (.slice a n ca) n X) (h : W.ownsRow base' e size v m xs) (hne : 9 ≠ e) (hg : W.grownBy W' v.ownBlock) : OwnSt W' base (.slice a n ca) n X := by
  have h9 : W.ownsRow base 9 1 (.slice a n ca) n (scells X) := ho.1
  refine ho.kept hg (fun q hq hq2 => ?_)
  rw [blk_own] at hq2
  exact rows_apart h9 h hne q (by rw [ownBlock_sU]; exact hq2) hq

/-- A store's three rows, of a call's own. -/
structure StoAt (W : World) (base : Nat) (a : Option Addr) (n ca : Nat) (X : List ByteArray) (a' : Option Addr) (n' ca' : Nat) (Y : List ByteArray) (ua : Option Addr) (un uc : Nat) (l : List UE) : Prop where
  now : OwnSt W base (.slice a n ca) n X
  sure : OwnSt W base (.slice a' n' ca') n' Y
  apart : ∀ q, a.map (·.block) = some q → a'.map (·.block) ≠ some q
  ups : UpRow W base (.slice ua un uc) l
  len : un = l.length

section
variable {W W' : World} {base : Nat} {a : Option Addr} {n ca : Nat} {X : List ByteArray} {a' : Option Addr} {n' ca' : Nat} {Y : List ByteArray} {ua : Option Addr} {un uc : Nat} {l : List UE}

theorem StoAt.stays (h : StoAt W base a n ca X a' n' ca' Y ua un uc l) (hb : Below W.heap.size W W') : StoAt W' base a n ca X a' n' ca' Y ua un uc l :=
  ⟨h.now.below hb, h.sure.below hb, h.apart, h.ups.stays hb, h.len⟩

theorem StoAt.low {b : Nat} (h : StoAt W base a n ca X a' n' ca' Y ua un uc l) (hb : b ≤ base) : StoAt W b a n ca X a' n' ca' Y ua un uc l :=
  ⟨h.now.low hb, h.sure.low hb, h.apart, h.ups.low hb, h.len⟩
end

/-- What lies below a bound stays. -/
theorem OwnSt.under {W W' : World} {base n ca B : Nat} {a : Option Addr} {X : List ByteArray} (h : OwnSt W base (.slice a n ca) n X) (hb : Below B W W') (h1 : ∀ q, a.map (·.block) = some q → q < B) : OwnSt W' base (.slice a n ca) n X := by
  refine ⟨⟨h.1.1, ?_⟩, h.2⟩
  rcases h.1.2 with h0 | ⟨g, cap, cur, he, hg, hh, r⟩
  · exact .inl h0
  · injection he with e1 e2 e3
    subst e1 e3
    exact .inr ⟨g, ca, cur, rfl, hg, (hb.block g (h1 g rfl)).trans hh, r⟩

theorem StoAt.setLow {W : World} {base b i : Nat} {a : Option Addr} {n ca : Nat} {X : List ByteArray} {a' : Option Addr} {n' ca' : Nat} {Y : List ByteArray} {ua : Option Addr} {un uc : Nat} {l : List UE} (h : StoAt W base a n ca X a' n' ca' Y ua un uc l) (hb : b < base) (u : Value) : StoAt (W.setCell ⟨b, i, none⟩ u) base a n ca X a' n' ca' Y ua un uc l := by
  refine ⟨h.now.setCell (fun e => ?_) u, h.sure.setCell (fun e => ?_) u, h.apart, h.ups.grown (grownBy_setU W b i u) (fun q hq hq2 => ?_) (fun e he q hq hq2 => ?_), h.len⟩
  · have := (h.now.lt b e).1; omega
  · have := (h.sure.lt b e).1; omega
  · injection hq with hq; have := (h.ups.lts.1 q hq2).1; omega
  · injection hq with hq; have := (h.ups.lts.2 e he q hq2).1; omega

/-- An answer that is a store. -/
def AnsS (base : Nat) (X Y : List ByteArray) (ep nx : Int) (us : List U) (v : Value) (w' : World) : Prop :=
  ∃ (a : Option Addr) (n ca : Nat) (a' : Option Addr) (n' ca' : Nat) (ua : Option Addr) (un uc : Nat) (l : List UE), v = .agg #[.slice a n ca, .slice a' n' ca', .int .i64 ep, .int .i64 nx, .slice ua un uc] ∧ StoAt w' base a n ca X a' n' ca' Y ua un uc l ∧ l.map UE.u = us

/-- The rows of a store lie below a bound. -/
def StoIn (a a' ua : Option Addr) (l : List UE) (hi : Nat) : Prop := (∀ q, a.map (·.block) = some q → q < hi) ∧ (∀ q, a'.map (·.block) = some q → q < hi) ∧ (∀ q, ua.map (·.block) = some q → q < hi) ∧ ∀ e ∈ l, ∀ q, e.a.map (·.block) = some q → q < hi

end Go.Proofs.YtlkgopoicpnacaaGreatDoor

namespace Go.Proofs.YtlkgopoicpnacaaGreatDoor
open Go.RowKit
set_option linter.unusedVariables false

/-- The epoch, the number of records and the uploads of the store that is opened. -/
def openO (X Y : List ByteArray) : Option (Int × Nat × List U) :=
  match okD X Y, foldU (scanR X) with
  | true, some us => if 10000 < topE X + 1 then none else some (topE X + 1, (scanR X).length, us)
  | _, _ => none

theorem topE_from (l : List ByteArray) : ∀ m : Int, -1 ≤ m → m ≤ 10000 → -1 ≤ l.foldl topStep m ∧ l.foldl topStep m ≤ 10000 := by
  induction l with
  | nil => exact fun m h1 h2 => ⟨h1, h2⟩
  | cons x l ih =>
    intro m h1 h2
    rw [List.foldl_cons]
    have hs : -1 ≤ topStep m x ∧ topStep m x ≤ 10000 := by
      cases h : recOf x with
      | none => rw [topStep_none h]; exact ⟨h1, h2⟩
      | some r =>
        have hr := (okRec_iff (recOf_iff.1 h).1).1
        rw [topStep_some h]
        split <;> omega
    exact ih _ hs.1 hs.2

theorem topE_range (l : List ByteArray) : -1 ≤ topE l ∧ topE l ≤ 10000 := topE_from l (-1) (by omega) (by omega)

/-- The answer. -/
def OpenAns (base : Nat) (X Y : List ByteArray) (e : Ending) (w' : World) : Prop :=
  match openO X Y with
  | none => ∃ v, e = .returned (.tuple #[v, .bool false]) ∧ AnsS base [] [] 0 0 [] v w'
  | some (ep, nx, us) => ∃ v, e = .returned (.tuple #[v, .bool true]) ∧ AnsS base X Y ep (nx : Int) us v w'

end Go.Proofs.YtlkgopoicpnacaaGreatDoor

namespace Go.Proofs.YtlkgopoicpnacaaGreatDoor
open Go.RowKit
set_option linter.unusedVariables false

/-- A record of a row: what it says, where its bytes lie. -/
structure RE where
  r : R
  a : Option Addr
  n : Nat
  c : Nat

def RE.cells (e : RE) : List Value := [.int .i64 e.r.e, .int .i64 e.r.q, .int .i64 e.r.k, .string e.r.id, .int .i64 e.r.n, .slice e.a e.n e.c]

def reCells (l : List RE) : List Value := l.flatMap RE.cells

theorem reCells_cons (e : RE) (l : List RE) : reCells (e :: l) = .int .i64 e.r.e :: .int .i64 e.r.q :: .int .i64 e.r.k :: .string e.r.id :: .int .i64 e.r.n :: .slice e.a e.n e.c :: reCells l := rfl

theorem reCells_append (l m : List RE) : reCells (l ++ m) = reCells l ++ reCells m := by simp [reCells]

theorem reCells_len (l : List RE) : (reCells l).length = l.length * 6 := by
  induction l with
  | nil => rfl
  | cons e l ih => rw [reCells_cons]; simp only [List.length_cons, ih]; omega

theorem reCells_at (l : List RE) : ∀ i (h : i < l.length), (reCells l)[i * 6]? = some (.int .i64 (l[i]).r.e) ∧ (reCells l)[i * 6 + 1]? = some (.int .i64 (l[i]).r.q) ∧ (reCells l)[i * 6 + 2]? = some (.int .i64 (l[i]).r.k) ∧ (reCells l)[i * 6 + 3]? = some (.string (l[i]).r.id) ∧ (reCells l)[i * 6 + 4]? = some (.int .i64 (l[i]).r.n) ∧ (reCells l)[i * 6 + 5]? = some (.slice (l[i]).a (l[i]).n (l[i]).c) := by
  induction l with
  | nil => intro i h; simp at h
  | cons e l ih =>
    intro i h
    cases i with
    | zero => rw [reCells_cons]; simp
    | succ i =>
      have h' : i < l.length := by simpa using h
      obtain ⟨h0, h1, h2, h3, h4, h5⟩ := ih i h'
      rw [reCells_cons, show (i + 1) * 6 = i * 6 + 1 + 1 + 1 + 1 + 1 + 1 by omega]
      refine ⟨?_, ?_, ?_, ?_, ?_, ?_⟩
      · simpa using h0
      · simpa using h1
      · simpa using h2
      · simpa using h3
      · simpa using h4
      · simpa using h5

theorem reCells_one (l : List RE) : ∀ u ∈ reCells l, u.oneCell' = true := by
  intro u hu
  simp only [reCells, List.mem_flatMap, RE.cells] at hu
  obtain ⟨e, _, hf⟩ := hu
  simp at hf
  rcases hf with rfl | rfl | rfl | rfl | rfl | rfl <;> rfl

/-- The first five cells of a record in its row are written over. -/
theorem reCells_set (l : List RE) (e : RE) (m : List RE) (x y z : Int) (t : ByteArray) (u : Int) :
    (((((reCells (l ++ e :: m)).set (l.length * 6) (.int .i64 x)).set (l.length * 6 + 1) (.int .i64 y)).set (l.length * 6 + 2) (.int .i64 z)).set (l.length * 6 + 3) (.string t)).set (l.length * 6 + 4) (.int .i64 u) = reCells (l ++ { e with r := ⟨x, y, z, t, u, e.r.zs⟩ } :: m) := by
  have hl := reCells_len l
  rw [reCells_append, reCells_append, reCells_cons, reCells_cons]
  rw [List.set_append_right _ _ (by omega), hl, Nat.sub_self, List.set_cons_zero]
  rw [List.set_append_right _ _ (by omega), hl, show l.length * 6 + 1 - l.length * 6 = 1 by omega]
  rw [List.set_append_right _ _ (by omega), hl, show l.length * 6 + 2 - l.length * 6 = 2 by omega]
  rw [List.set_append_right _ _ (by omega), hl, show l.length * 6 + 3 - l.length * 6 = 3 by omega]
  rw [List.set_append_right _ _ (by omega), hl, show l.length * 6 + 4 - l.length * 6 = 4 by omega]
  rfl

/-- Two bodies do not lie in one block. -/
def rapart (e e' : RE) : Prop := ∀ q, e.a.map (·.block) = some q → e'.a.map (·.block) ≠ some q

/-- A slice value that owns these frames, and each of them its body, no two in one block. -/
def RcRow (W : World) (base : Nat) (v : Value) (l : List RE) : Prop :=
  W.ownsRow base 107 6 v l.length (reCells l) ∧ (∀ e ∈ l, Owns W base e.a e.n e.c e.r.zs) ∧ l.Pairwise rapart

theorem RcRow.stays {W W' : World} {base : Nat} {v : Value} {l : List RE} (h : RcRow W base v l) (hb : Below W.heap.size W W') : RcRow W' base v l :=
  ⟨own_below h.1 hb, fun e he => (h.2.1 e he).below hb, h.2.2⟩

theorem RcRow.low {W : World} {base b' : Nat} {v : Value} {l : List RE} (h : RcRow W base v l) (hb : b' ≤ base) : RcRow W b' v l :=
  ⟨own_low h.1 hb, fun e he => (h.2.1 e he).low hb, h.2.2⟩

theorem RcRow.shape {W : World} {base : Nat} {v : Value} {l : List RE} (h : RcRow W base v l) : ∃ a c, v = .slice a l.length c := by
  rcases h.1.2 with ⟨rfl, h0⟩ | ⟨g, cap, cur, rfl, _⟩
  · rw [h0]; exact ⟨_, _, rfl⟩
  · exact ⟨_, _, rfl⟩

theorem ownBlock_sR (a : Option Addr) (n cap : Nat) : (Value.slice a n cap).ownBlock = a.map (·.block) := by cases a <;> rfl

/-- The row's block is no body's. -/
theorem RcRow.rowApart {W : World} {base b2 : Nat} {v : Value} {l : List RE} (h : RcRow W base v l) {a : Option Addr} {n c : Nat} {zs : List Int} (ho : Owns W b2 a n c zs) : ∀ q, v.ownBlock = some q → a.map (·.block) ≠ some q := by
  intro q hq
  rcases h.1.2 with ⟨rfl, _⟩ | ⟨g, cap, cur, rfl, _, hg, _⟩
  · cases hq
  · obtain rfl : g = q := by simpa [Value.ownBlock] using hq
    exact ho.other hg (by decide)

theorem RcRow.grown {W W' : World} {base : Nat} {v : Value} {l : List RE} {r : Option Nat} (h : RcRow W base v l) (hg : W.grownBy W' r) (hv : ∀ q, r = some q → v.ownBlock ≠ some q) (hr : ∀ e ∈ l, ∀ q, r = some q → e.a.map (·.block) ≠ some q) : RcRow W' base v l := by
  refine ⟨h.1.kept hg ?_, fun e he => (h.2.1 e he).grown hg (hr e he), h.2.2⟩
  cases e : v.ownBlock with
  | none => exact .inl rfl
  | some k => exact .inr (fun h => hv k h.symm e)

/-- What lies from a bound on is not touched by what lies below it. -/
theorem RcRow.lts {W : World} {base : Nat} {v : Value} {l : List RE} (h : RcRow W base v l) : (∀ q, v.ownBlock = some q → base ≤ q ∧ q < W.heap.size) ∧ ∀ e ∈ l, ∀ q, e.a.map (·.block) = some q → base ≤ q ∧ q < W.heap.size :=
  ⟨h.1.lt, fun e he q hq => (h.2.1 e he).lt q hq⟩

/-- The cells of the record at an index. -/
theorem RcRow.at {W : World} {base n c : Nat} {a : Option Addr} {l : List RE} (h : RcRow W base (.slice a n c) l) (hn : n = l.length) {i : Nat} (hi : i < l.length) :
    ∃ g, a = some ⟨g, 0, none⟩ ∧ W.cell? ⟨g, i * 6, none⟩ = some (.int .i64 (l[i]).r.e) ∧ W.cell? ⟨g, i * 6 + 1, none⟩ = some (.int .i64 (l[i]).r.q) ∧ W.cell? ⟨g, i * 6 + 2, none⟩ = some (.int .i64 (l[i]).r.k) ∧ W.cell? ⟨g, i * 6 + 3, none⟩ = some (.string (l[i]).r.id) ∧ W.cell? ⟨g, i * 6 + 4, none⟩ = some (.int .i64 (l[i]).r.n) ∧ W.cell? ⟨g, i * 6 + 5, none⟩ = some (.slice (l[i]).a (l[i]).n (l[i]).c) ∧ ∀ j, W.frozen? ⟨g, j, none⟩ = false := by
  rcases h.1.2 with ⟨_, h0⟩ | ⟨g, cap, cur, he, _⟩
  · omega
  · injection he with e1 e2 e3
    subst e1
    have hl := reCells_len l
    obtain ⟨h0, h1, h2, h3, h4, h5⟩ := reCells_at l i hi
    have ho := h.1
    rw [hn] at ho
    refine ⟨g, rfl, ?_, ?_, ?_, ?_, ?_, ?_, fun j => ho.frozenAt j⟩
    · rw [ho.cellAt _ (by omega)]; exact h0
    · rw [ho.cellAt _ (by omega)]; exact h1
    · rw [ho.cellAt _ (by omega)]; exact h2
    · rw [ho.cellAt _ (by omega)]; exact h3
    · rw [ho.cellAt _ (by omega)]; exact h4
    · rw [ho.cellAt _ (by omega)]; exact h5

theorem rpair_same (M D : List RE) (e e' : RE) (ha : e'.a = e.a) (h : (M ++ e :: D).Pairwise rapart) : (M ++ e' :: D).Pairwise rapart := by
  rw [List.pairwise_append, List.pairwise_cons] at h ⊢
  refine ⟨h.1, ⟨fun y hy q hq => h.2.1.1 y hy q (by rw [← ha]; exact hq), h.2.1.2⟩, fun x hx y hy => ?_⟩
  rcases List.mem_cons.1 hy with rfl | hy
  · intro q hq
    rw [ha]
    exact h.2.2 x hx e (List.mem_cons_self ..) q hq
  · exact h.2.2 x hx y (List.mem_cons_of_mem _ hy)

theorem grow_trans {w w1 w2 : World} {row : Option Nat} (h : w.grownBy w1 row) (k : w1.grownBy w2 row) : w.grownBy w2 row :=
  ⟨k.os.trans h.os, k.tape.trans h.tape, k.output.trans h.output, Nat.le_trans h.size k.size, fun i hi hne => (k.block i (Nat.lt_of_lt_of_le hi h.size) hne).trans (h.block i hi hne)⟩

/-- A record's first five cells are written over in its row. -/
theorem RcRow.numbers {W : World} {base g n c : Nat} {M D : List RE} {e : RE} (h : RcRow W base (.slice (some ⟨g, 0, none⟩) n c) (M ++ e :: D)) (hn : (M ++ e :: D).length = n) (x y z : Int) (t : ByteArray) (u : Int) :
    RcRow (((((W.setCell ⟨g, M.length * 6, none⟩ (.int .i64 x)).setCell ⟨g, M.length * 6 + 1, none⟩ (.int .i64 y)).setCell ⟨g, M.length * 6 + 2, none⟩ (.int .i64 z)).setCell ⟨g, M.length * 6 + 3, none⟩ (.string t)).setCell ⟨g, M.length * 6 + 4, none⟩ (.int .i64 u)) base (.slice (some ⟨g, 0, none⟩) n c) (M ++ { e with r := ⟨x, y, z, t, u, e.r.zs⟩ } :: D) ∧
      W.grownBy (((((W.setCell ⟨g, M.length * 6, none⟩ (.int .i64 x)).setCell ⟨g, M.length * 6 + 1, none⟩ (.int .i64 y)).setCell ⟨g, M.length * 6 + 2, none⟩ (.int .i64 z)).setCell ⟨g, M.length * 6 + 3, none⟩ (.string t)).setCell ⟨g, M.length * 6 + 4, none⟩ (.int .i64 u)) (some g) := by
  have ho := h.1
  rw [hn] at ho
  have h1 := ho.stored (M.length * 6) (.int .i64 x)
  have h2 := h1.1.stored (M.length * 6 + 1) (.int .i64 y)
  have h3 := h2.1.stored (M.length * 6 + 2) (.int .i64 z)
  have h4 := h3.1.stored (M.length * 6 + 3) (.string t)
  have h5 := h4.1.stored (M.length * 6 + 4) (.int .i64 u)
  have hg : W.grownBy (((((W.setCell ⟨g, M.length * 6, none⟩ (.int .i64 x)).setCell ⟨g, M.length * 6 + 1, none⟩ (.int .i64 y)).setCell ⟨g, M.length * 6 + 2, none⟩ (.int .i64 z)).setCell ⟨g, M.length * 6 + 3, none⟩ (.string t)).setCell ⟨g, M.length * 6 + 4, none⟩ (.int .i64 u)) (some g) := by
    have a1 : World.grownBy _ _ (some g) := h1.2
    have a2 : World.grownBy _ _ (some g) := h2.2
    have a3 : World.grownBy _ _ (some g) := h3.2
    have a4 : World.grownBy _ _ (some g) := h4.2
    have a5 : World.grownBy _ _ (some g) := h5.2
    exact grow_trans (grow_trans (grow_trans (grow_trans a1 a2) a3) a4) a5
  refine ⟨⟨?_, ?_, rpair_same M D e _ rfl h.2.2⟩, hg⟩
  · have h6 := h5.1
    rw [reCells_set] at h6
    rw [show (M ++ { e with r := ⟨x, y, z, t, u, e.r.zs⟩ } :: D).length = n by rw [← hn]; simp]
    exact h6
  · intro e' he
    have key : ∀ v ∈ M ++ e :: D, Owns (((((W.setCell ⟨g, M.length * 6, none⟩ (.int .i64 x)).setCell ⟨g, M.length * 6 + 1, none⟩ (.int .i64 y)).setCell ⟨g, M.length * 6 + 2, none⟩ (.int .i64 z)).setCell ⟨g, M.length * 6 + 3, none⟩ (.string t)).setCell ⟨g, M.length * 6 + 4, none⟩ (.int .i64 u)) base v.a v.n v.c v.r.zs := fun v hv => (h.2.1 v hv).grown hg (fun q hq => h.rowApart (h.2.1 v hv) q (by injection hq with hq; subst hq; rfl))
    rcases List.mem_append.1 he with he | he
    · exact key e' (List.mem_append_left _ he)
    · rcases List.mem_cons.1 he with rfl | he
      · exact key e (List.mem_append_right _ (List.mem_cons_self ..))
      · exact key e' (List.mem_append_right _ (List.mem_cons_of_mem _ he))

/-- A record's bytes are written over. -/
theorem RcRow.bodied {W W' : World} {base : Nat} {v : Value} {M D : List RE} {e : RE} (h : RcRow W base v (M ++ e :: D)) (zs : List Int) (ho : Owns W' base e.a e.n e.c zs) (hg : W.grownBy W' (e.a.map (·.block))) : RcRow W' base v (M ++ { e with r := { e.r with zs := zs } } :: D) := by
  have hp := h.2.2
  rw [List.pairwise_append, List.pairwise_cons] at hp
  have hrow := h.rowApart (h.2.1 e (List.mem_append_right _ (List.mem_cons_self ..)))
  refine ⟨?_, ?_, rpair_same M D e _ rfl h.2.2⟩
  · have h1 : W'.ownsRow base 107 6 v (M ++ e :: D).length (reCells (M ++ e :: D)) := by
      refine h.1.kept hg ?_
      cases hv : v.ownBlock with
      | none => exact .inl rfl
      | some q => exact .inr (fun hq => hrow q hv hq.symm)
    have e1 : reCells (M ++ { e with r := { e.r with zs := zs } } :: D) = reCells (M ++ e :: D) := by rw [reCells_append, reCells_append]; rfl
    rw [e1, show (M ++ { e with r := { e.r with zs := zs } } :: D).length = (M ++ e :: D).length by simp]
    exact h1
  · intro u hu
    rcases List.mem_append.1 hu with hu | hu
    · refine (h.2.1 u (List.mem_append_left _ hu)).grown hg (fun q hq hq2 => ?_)
      exact hp.2.2 u hu e (List.mem_cons_self ..) q hq2 hq
    · rcases List.mem_cons.1 hu with rfl | hu
      · exact ho
      · exact (h.2.1 u (List.mem_append_right _ (List.mem_cons_of_mem _ hu))).grown hg (fun q hq => hp.2.1.1 u hu q hq)

/-- What lies below a bound stays where nothing below it is written. -/
theorem RcRow.under {W W' : World} {base B : Nat} {v : Value} {l : List RE} (h : RcRow W base v l) (hb : Below B W W') (h1 : ∀ q, v.ownBlock = some q → q < B) (h2 : ∀ e ∈ l, ∀ q, e.a.map (·.block) = some q → q < B) : RcRow W' base v l := by
  have key : ∀ {e : TypeId} {size n : Nat} {v : Value} {xs : List Value}, W.ownsRow base e size v n xs → (∀ q, v.ownBlock = some q → q < B) → W'.ownsRow base e size v n xs := by
    intro e size n v xs ho hq
    refine ⟨ho.1, ?_⟩
    rcases ho.2 with h0 | ⟨g, cap, cur, rfl, hg, hh, r⟩
    · exact .inl h0
    · exact .inr ⟨g, cap, cur, rfl, hg, (hb.block g (hq g rfl)).trans hh, r⟩
  exact ⟨key h.1 h1, fun e he => ⟨key (h.2.1 e he).1 (fun q hq => h2 e he q (by rw [ownBlock_sR] at hq; exact hq)), (h.2.1 e he).2⟩, h.2.2⟩

theorem RcRow.nil (W : World) : RcRow (W.alloc (.cells #[] 107)) W.heap.size (.slice (some ⟨W.heap.size, 0, none⟩) 0 0) [] :=
  ⟨World.ownsRow_lit W #[] 0 (Nat.le_refl _) (Nat.zero_le _) rfl, by simp, List.Pairwise.nil⟩

end Go.Proofs.YtlkgopoicpnacaaGreatDoor

namespace Go.Proofs.YtlkgopoicpnacaaGreatDoor
open Go.RowKit

theorem scan_allok (X : List ByteArray) : ∀ r ∈ scanR X, r.ok = true := by
  intro r hr
  obtain ⟨k, hk, rfl⟩ := List.getElem_of_mem hr
  obtain ⟨⟨x, _, hx⟩, _⟩ := scan_one (List.getElem?_eq_getElem hk)
  exact (recOf_iff.1 hx).1

theorem rows_ns {rs : List RE} {X : List ByteArray} (h : rs.map RE.r = scanR X) : ∀ e ∈ rs, -9223372036854775808 ≤ e.r.n ∧ e.r.n ≤ 9223372036854775807 := by
  intro e he
  have h1 := scan_allok X e.r (by rw [← h]; exact List.mem_map_of_mem he)
  have h2 := okRec_iff h1
  omega

end Go.Proofs.YtlkgopoicpnacaaGreatDoor

namespace Go.Proofs.YtlkgopoicpnacaaGreatDoor
open Go.RowKit
set_option linter.unusedVariables false

theorem oneU_zs {l l' : List U} {r : R} {m : Nat} (h : oneU l r = some l') (hl : ∀ u ∈ l, u.zs.length ≤ m) : ∀ u ∈ l', u.zs.length ≤ m + r.zs.length := by
  rw [oneU] at h
  split at h
  · split at h
    · injection h with h
      subst h
      intro u hu
      rcases List.mem_append.1 hu with h | h
      · have := hl u (List.mem_of_mem_take h); omega
      · rcases List.mem_cons.1 h with rfl | h
        · exact Nat.zero_le _
        · have := hl u (List.mem_of_mem_drop h); omega
    · cases h
  · split at h
    · cases h
    · split at h
      · cases h
      · rename_i k _ x hx
        have hxl := hl x (List.mem_of_getElem? hx)
        split at h
        · split at h
          · cases h
          · injection h with h
            subst h
            intro u hu
            rcases List.mem_or_eq_of_mem_set hu with h | rfl
            · have := hl u h; omega
            · simp only [List.length_append]; omega
        · split at h
          · split at h
            · cases h
            · injection h with h
              subst h
              intro u hu
              rcases List.mem_or_eq_of_mem_set hu with h | rfl
              · have := hl u h; omega
              · dsimp only; omega
          · split at h
            · injection h with h
              subst h
              intro u hu
              have := hl u (List.mem_of_mem_eraseIdx hu)
              omega
            · cases h

end Go.Proofs.YtlkgopoicpnacaaGreatDoor

namespace Go.Proofs.YtlkgopoicpnacaaGreatDoor
open Go.RowKit
set_option linter.unusedVariables false

structure OA where
  X : List ByteArray
  Y : List ByteArray
  ep : Int
  nx : Int
  us : List U
  ok : Bool

def openA (X Y : List ByteArray) : OA := match openO X Y with
  | none => ⟨[], [], 0, 0, [], false⟩
  | some (ep, nx, us) => ⟨X, Y, ep, (nx : Int), us, true⟩

theorem OpenAns.get {base : Nat} {X Y : List ByteArray} {e : Ending} {w' : World} (h : OpenAns base X Y e w') : ∃ v, e = .returned (.tuple #[v, .bool (openA X Y).ok]) ∧ AnsS base (openA X Y).X (openA X Y).Y (openA X Y).ep (openA X Y).nx (openA X Y).us v w' := by
  rw [OpenAns] at h
  rw [openA]
  cases ho : openO X Y with
  | none => rw [ho] at h; exact h
  | some t =>
    obtain ⟨ep, nx, us⟩ := t
    rw [ho] at h
    exact h

theorem foldlM_zs {rs : List R} : ∀ {us us' : List U} {m : Nat}, (∀ u ∈ us, u.zs.length ≤ m) → (∀ r ∈ rs, r.zs.length ≤ 24) → rs.foldlM oneU us = some us' → ∀ u ∈ us', u.zs.length ≤ m + rs.length * 24 := by
  induction rs with
  | nil =>
    intro us us' m h1 _ h
    obtain rfl : us = us' := by simpa using h
    simpa using h1
  | cons r rs ih =>
    intro us us' m h1 hr h
    rw [List.foldlM_cons] at h
    cases ho : oneU us r with
    | none => rw [ho] at h; cases h
    | some u1 =>
      rw [ho] at h
      have h2 := oneU_zs ho h1
      have h3 := hr r (List.mem_cons_self ..)
      intro u hu
      have h4 := ih (m := m + 24) (fun u hu => by have := h2 u hu; omega) (fun x hx => hr x (List.mem_cons_of_mem _ hx)) h u hu
      rw [List.length_cons]
      omega

/-- The uploads of sectors have few bytes. -/
theorem fold_small {X Y : List ByteArray} {us : List U} (h : okD X Y = true) (hf : foldU (scanR X) = some us) : us.length ≤ 10 ∧ ∀ u ∈ us, u.zs.length ≤ 4800 := by
  have h1 := (okD_iff.1 h).2.1
  have h2 := scanFrom_len X 0 0
  have h3 : (scanR X).length = (scanFrom 0 0 X).length := rfl
  refine ⟨foldlM_len (us := []) (by simp) hf, fun u hu => ?_⟩
  have h4 := foldlM_zs (us := []) (m := 0) (by simp) (fun r hr => (okRec_iff (scan_allok X r hr)).2.2.2.2.2) hf u hu
  omega

theorem openA_sz {X Y : List ByteArray} (h1 : X.length ≤ 1048576) (h2 : Y.length ≤ 1048576) : (openA X Y).X.length ≤ 1048576 ∧ (openA X Y).Y.length ≤ 1048576 ∧ (openA X Y).us.length ≤ 1048576 ∧ ∀ u ∈ (openA X Y).us, u.zs.length ≤ 1048576 := by
  rw [openA]
  cases ho : openO X Y with
  | none => simp
  | some t =>
    obtain ⟨ep, nx, us⟩ := t
    rw [openO] at ho
    split at ho
    · rename_i hok hf
      split at ho
      · cases ho
      · simp only [Option.some.injEq, Prod.mk.injEq] at ho
        obtain ⟨_, _, rfl⟩ := ho
        have h3 := fold_small hok hf
        exact ⟨h1, h2, Nat.le_trans h3.1 (by decide), fun u hu => by have := h3.2 u hu; omega⟩
    · cases ho

end Go.Proofs.YtlkgopoicpnacaaGreatDoor
