/- The small facts of Own, under the name that the other texts import. Rows of texts in memory: what they hold, rows that a call has made. No statement of the program but its table of types. A variable of two cells: no program in it. Rows of texts and the block that they lie in. No program in it but its table of types. Rows of texts cut in two. No program in it but its table of types. A store in memory: its two rows of texts and its uploads, of a call's own. No program in it but its table of types. A store, and an upload, in a variable of the law's: where its rows lie. No statement of the program but its table of types. Blocks of one type that stay while those of others are written. No program in it but its table of types. -/
import Derived.Test.YtemcjenpgdieoaaGreatDoorM01
import Derived.Deep.QuietTactic
import Derived.Test.YtemcjenpgdieoaaGreatDoorM03
import Derived.Test.YtemcjenpgdieoaaGreatDoorM04


namespace Go.Proofs.YtemcjenpgdieoaaGreatDoor
open Go.RowKit
set_option linter.unusedVariables false

/-- The cells of a row of texts. -/
def scells (l : List ByteArray) : List Value := l.map Value.string

theorem scells_len (l : List ByteArray) : (scells l).length = l.length := List.length_map ..

theorem scells_at (l : List ByteArray) (i : Nat) (hi : i < l.length) : (scells l)[i]? = some (.string (l[i])) := by
  simp [scells, hi]

theorem scells_append (l r : List ByteArray) : scells (l ++ r) = scells l ++ scells r := by simp [scells]

theorem scells_set (l : List ByteArray) (x : ByteArray) (k : Nat) : (scells l).set k (.string x) = scells (l.set k x) := by simp [scells, List.map_set]

theorem scells_one (l : List ByteArray) : ∀ u ∈ scells l, u.oneCell' = true := by
  intro u hu
  simp only [scells, List.mem_map] at hu
  obtain ⟨x, _, rfl⟩ := hu
  rfl

/-- The bytes of texts. -/
def strBytes (l : List ByteArray) : Nat := (l.map ByteArray.size).sum

theorem strBytes_step (l : List ByteArray) (k : Nat) (x : ByteArray) (h : l[k]? = some x) : strBytes (l.take (k + 1)) = strBytes (l.take k) + x.size := by
  rw [List.take_add_one, h]
  simp [strBytes]

theorem strBytes_mem (l : List ByteArray) (x : ByteArray) (h : x ∈ l) : x.size ≤ strBytes l := by
  induction l with
  | nil => cases h
  | cons y l ih =>
    have e : strBytes (y :: l) = y.size + strBytes l := by simp [strBytes]
    rcases List.mem_cons.1 h with rfl | h
    · omega
    · have := ih h
      omega

/-- The slice (a, n) holds the texts l in the world w. -/
def Strs (w : World) (a : Option Addr) (n : Nat) (l : List ByteArray) : Prop :=
  l.length = n ∧ (∀ x ∈ l, x.size ≤ maxLen) ∧
  (n = 0 ∨ ∃ b off, a = some ⟨b, off, none⟩ ∧ b < w.heap.size ∧ ∀ i (hi : i < l.length), w.cell? ⟨b, off + i, none⟩ = some (.string (l[i])))

theorem Strs.below {w w' : World} {a : Option Addr} {n : Nat} {l : List ByteArray} (h : Strs w a n l) (hb : Below w.heap.size w w') : Strs w' a n l := by
  obtain ⟨h1, h2, h3⟩ := h
  refine ⟨h1, h2, ?_⟩
  rcases h3 with h0 | ⟨b, off, ha, hlt, hc⟩
  · exact .inl h0
  · exact .inr ⟨b, off, ha, Nat.lt_of_lt_of_le hlt hb.size, fun i hi => (hb.cell (p := ⟨b, off + i, none⟩) hlt).trans (hc i hi)⟩

/-- The cell at one index. -/
theorem Strs.at {w : World} {a : Option Addr} {n : Nat} {l : List ByteArray} (h : Strs w a n l) {k : Nat} (hk : k < n) : ∃ b off x, a = some ⟨b, off, none⟩ ∧ b < w.heap.size ∧ l[k]? = some x ∧ w.cell? ⟨b, off + k, none⟩ = some (.string x) := by
  obtain ⟨h1, h2, h3⟩ := h
  rcases h3 with h0 | ⟨b, off, ha, hlt, hc⟩
  · omega
  · have hk' : k < l.length := by omega
    exact ⟨b, off, l[k], ha, hlt, List.getElem?_eq_getElem hk', hc k hk'⟩

theorem Strs.cells {w : World} {a : Option Addr} {n : Nat} {l : List ByteArray} (h : Strs w a n l) : ∀ ad, a = some ad → ∀ j u, (scells l)[j]? = some u → w.cell? (ad.add j) = some u := by
  intro ad ha j u hj
  have hjl : j < l.length := by
    rw [← scells_len]
    exact (List.getElem?_eq_some_iff.1 hj).1
  rcases h.2.2 with h0 | ⟨b, off, e, hb, hc⟩
  · have := h.1
    omega
  · rw [ha] at e
    injection e with e
    subst e
    have hadd : (⟨b, off, none⟩ : Addr).add j = ⟨b, off + j, none⟩ := by unfold Addr.add; split <;> simp_all
    rw [hadd, hc j hjl, ← scells_at l j hjl, hj]

theorem Strs.none_nil {w : World} {a : Option Addr} {n : Nat} {l : List ByteArray} (h : Strs w a n l) (ha : a = none) : n = 0 := by
  rcases h.2.2 with h0 | ⟨b, off, e, _⟩
  · exact h0
  · rw [ha] at e
    cases e

theorem Strs.nil (w : World) (a : Option Addr) : Strs w a 0 [] := ⟨rfl, by simp, .inl rfl⟩

/-- A slice value that owns these texts, in a block from base on. -/
def OwnSt (w : World) (base : Nat) (v : Value) (n : Nat) (l : List ByteArray) : Prop := w.ownsRow base 9 1 v n (scells l) ∧ ∀ x ∈ l, x.size ≤ maxLen

theorem OwnSt.len {w : World} {base n : Nat} {v : Value} {l : List ByteArray} (h : OwnSt w base v n l) : l.length = n := by
  have := h.1.1
  rw [scells_len] at this
  omega

theorem OwnSt.shape {w : World} {base n : Nat} {v : Value} {l : List ByteArray} (h : OwnSt w base v n l) : ∃ a cap, v = .slice a n cap := by
  rcases h.1.2 with ⟨rfl, rfl⟩ | ⟨g, cap, cur, rfl, _⟩
  · exact ⟨_, _, rfl⟩
  · exact ⟨_, _, rfl⟩

theorem OwnSt.strs {w : World} {base n cap : Nat} {a : Option Addr} {l : List ByteArray} (h : OwnSt w base (.slice a n cap) n l) : Strs w a n l := by
  have hl := h.len
  refine ⟨hl, h.2, ?_⟩
  rcases h.1.2 with ⟨_, hn⟩ | ⟨g, cap', cur, he, hb, hg, hn, hm, hc, ht⟩
  · exact .inl hn
  · injection he with e1 e2 e3
    subst e1
    refine .inr ⟨g, 0, rfl, (Array.getElem?_eq_some_iff.1 hg).1, fun i hi => ?_⟩
    have hi' : i < n := by omega
    rw [Nat.zero_add, cell_of_row w g i cur _ (0, 0) hg, ← scells_at l i hi, ← ht, List.getElem?_take, if_pos (by omega), Array.getElem?_toList]

theorem OwnSt.below {w w' : World} {base n : Nat} {v : Value} {l : List ByteArray} (h : OwnSt w base v n l) (hb : Below w.heap.size w w') : OwnSt w' base v n l := by
  refine ⟨⟨h.1.1, ?_⟩, h.2⟩
  rcases h.1.2 with h0 | ⟨g, cap, cur, he, hg, hh, r⟩
  · exact .inl h0
  · exact .inr ⟨g, cap, cur, he, hg, (hb.block g (Array.getElem?_eq_some_iff.1 hh).1).trans hh, r⟩

theorem OwnSt.grown {w w' : World} {base n : Nat} {v : Value} {l : List ByteArray} {r : Option Nat} (h : OwnSt w base v n l) (hg : w.grownBy w' r) (hr : ∀ q, r = some q → ∀ p m c, v = .slice (some p) m c → p.block ≠ q) : OwnSt w' base v n l := by
  refine ⟨⟨h.1.1, ?_⟩, h.2⟩
  rcases h.1.2 with h0 | ⟨g, cap, cur, he, hgb, hh, rest⟩
  · exact .inl h0
  · refine .inr ⟨g, cap, cur, he, hgb, (hg.block g (Array.getElem?_eq_some_iff.1 hh).1 ?_).trans hh, rest⟩
    intro e
    exact hr g e.symm _ _ _ he rfl

theorem info_string : (Tryz.prog.info? 9).map (fun i => (i.zero, i.size, i.bytes)) = some (some (.string ⟨#[]⟩), 1, 16) := by kernel_rfl

/-- A row that is copied up to k. -/
def srowTo (l : List ByteArray) (len k : Nat) : List ByteArray := l.take k ++ List.replicate (len - k) ⟨#[]⟩

theorem srowTo_step (l : List ByteArray) (len k : Nat) (x : ByteArray) (h : l[k]? = some x) (hk : k < len) : (srowTo l len k).set k x = srowTo l len (k + 1) := by
  have hl : k < l.length := (List.getElem?_eq_some_iff.1 h).1
  have ht : (l.take k).length = k := by simp; omega
  rw [srowTo, srowTo, List.set_append_right k _ (by omega), ht, Nat.sub_self, List.take_add_one, h, show len - k = (len - (k + 1)) + 1 by omega, List.replicate_succ]
  simp

theorem srowTo_len (l : List ByteArray) (len k : Nat) (h : l.length = len) (hk : k ≤ len) : (srowTo l len k).length = len := by
  simp [srowTo]; omega

end Go.Proofs.YtemcjenpgdieoaaGreatDoor

namespace Go.Proofs.YtemcjenpgdieoaaGreatDoor
open Go.RowKit
set_option linter.unusedVariables false

/-- The block holds a variable of two cells. -/
def Box2R (W : World) (b : Nat) (t : TypeId) (x y : Value) : Prop := W.heap[b]? = some (.cells #[x, y] t (0, 0))

theorem Box2R.lt {W : World} {b : Nat} {t : TypeId} {x y : Value} (h : Box2R W b t x y) : b < W.heap.size := (Array.getElem?_eq_some_iff.1 h).1

theorem Box2R.stays {W W' : World} {b : Nat} {t : TypeId} {x y : Value} (h : Box2R W b t x y) (hb : Below W.heap.size W W') : Box2R W' b t x y := (hb.block b h.lt).trans h

theorem Box2R.alloc {W : World} {b : Nat} {t : TypeId} {x y : Value} (h : Box2R W b t x y) (o : Obj) : Box2R (W.alloc o) b t x y := h.stays ((Below.refl _ _).alloc (Nat.le_refl _) _)

theorem Box2R.new (W : World) (t : TypeId) (x y : Value) : Box2R (W.alloc (.cells #[x, y] t)) W.heap.size t x y := heap_alloc_new W _

theorem Box2R.cells {W : World} {b : Nat} {t : TypeId} {x y : Value} (h : Box2R W b t x y) : W.cell? ⟨b, 0, none⟩ = some x ∧ W.cell? ⟨b, 1, none⟩ = some y := by
  have h' : W.heap[b]? = some (.cells #[x, y] t (0, 0)) := h
  exact ⟨by rw [cell_of_row _ _ _ _ _ _ h']; rfl, by rw [cell_of_row _ _ _ _ _ _ h']; rfl⟩

theorem Box2R.frozen {W : World} {b : Nat} {t : TypeId} {x y : Value} (h : Box2R W b t x y) (i : Nat) : W.frozen? ⟨b, i, none⟩ = false := by simp [World.frozen?, show W.heap[b]? = _ from h]

theorem Box2R.grown {W W' : World} {b : Nat} {t : TypeId} {x y : Value} {r : Option Nat} (h : Box2R W b t x y) (hg : W.grownBy W' r) (hr : r ≠ some b) : Box2R W' b t x y := (hg.block b h.lt (Ne.symm hr)).trans h

theorem Box2R.set0 {W : World} {b : Nat} {t : TypeId} {x y : Value} (h : Box2R W b t x y) (v : Value) : Box2R (W.setCell ⟨b, 0, none⟩ v) b t v y := by
  show (W.setCell ⟨b, 0, none⟩ v).heap[b]? = _
  rw [setCell_eq_setRow W b 0 _ t (0, 0) _ h, setRow_heap W b _ _ t (0, 0) h]
  rfl

theorem Box2R.set1 {W : World} {b : Nat} {t : TypeId} {x y : Value} (h : Box2R W b t x y) (v : Value) : Box2R (W.setCell ⟨b, 1, none⟩ v) b t x v := by
  show (W.setCell ⟨b, 1, none⟩ v).heap[b]? = _
  rw [setCell_eq_setRow W b 1 _ t (0, 0) _ h, setRow_heap W b _ _ t (0, 0) h]
  rfl

theorem Box2R.other {W : World} {b b' k : Nat} {t : TypeId} {x y : Value} (h : Box2R W b t x y) (hne : b ≠ b') (v : Value) : Box2R (W.setCell ⟨b', k, none⟩ v) b t x y := (set_block_ne W b b' k v hne).trans h

end Go.Proofs.YtemcjenpgdieoaaGreatDoor

namespace Go.Proofs.YtemcjenpgdieoaaGreatDoor
open Go.RowKit
set_option linter.unusedVariables false

/-- What lies behind a slice value, if it has a block. -/
def blkOf : Value → Option Nat
  | .slice (some p) _ _ => some p.block
  | _ => none

theorem OwnSt.low {w : World} {base lo n : Nat} {v : Value} {l : List ByteArray} (h : OwnSt w base v n l) (hl : lo ≤ base) : OwnSt w lo v n l := by
  refine ⟨⟨h.1.1, ?_⟩, h.2⟩
  rcases h.1.2 with h0 | ⟨g, cap, cur, he, hg, r⟩
  · exact .inl h0
  · exact .inr ⟨g, cap, cur, he, Nat.le_trans hl hg, r⟩

theorem OwnSt.lt {w : World} {base n : Nat} {v : Value} {l : List ByteArray} (h : OwnSt w base v n l) : ∀ q, blkOf v = some q → base ≤ q ∧ q < w.heap.size := by
  intro q hq
  rcases h.1.2 with ⟨rfl, _⟩ | ⟨g, cap, cur, rfl, hg, hh, _⟩
  · simp [blkOf] at hq
  · obtain rfl : g = q := by simpa [blkOf] using hq
    exact ⟨hg, (Array.getElem?_eq_some_iff.1 hh).1⟩

theorem OwnSt.kept {w w' : World} {base n : Nat} {v : Value} {l : List ByteArray} {r : Option Nat} (h : OwnSt w base v n l) (hg : w.grownBy w' r) (hr : ∀ q, r = some q → blkOf v ≠ some q) : OwnSt w' base v n l := by
  refine h.grown hg fun q hq p m c hv hne => hr q hq ?_
  rw [hv, ← hne]
  rfl

theorem OwnSt.setCell {w : World} {base n : Nat} {v : Value} {l : List ByteArray} (h : OwnSt w base v n l) {b k : Nat} (hb : blkOf v ≠ some b) (u : Value) : OwnSt (w.setCell ⟨b, k, none⟩ u) base v n l := by
  refine ⟨⟨h.1.1, ?_⟩, h.2⟩
  rcases h.1.2 with h0 | ⟨g, cap, cur, rfl, hg, hh, r⟩
  · exact .inl h0
  · exact .inr ⟨g, cap, cur, rfl, hg, (set_block_ne w g b k u (fun e => hb (by rw [blkOf, e]))).trans hh, r⟩

end Go.Proofs.YtemcjenpgdieoaaGreatDoor

namespace Go.Proofs.YtemcjenpgdieoaaGreatDoor
open Go.RowKit
set_option linter.unusedVariables false

/-- A slice value whose parts may be taken. -/
def SlOk (a : Option Addr) (n ca : Nat) : Prop := n ≤ ca ∧ ca ≤ maxLen ∧ ((a = none ∧ ca = 0) ∨ ∃ b off, a = some ⟨b, off, none⟩)

theorem OwnSt.sl {w : World} {base n ca : Nat} {a : Option Addr} {l : List ByteArray} (h : OwnSt w base (.slice a n ca) n l) : SlOk a n ca := by
  rcases h.1.2 with ⟨h0, h1⟩ | ⟨g, cap, cur, he, hb, hg, hn, hm, hc, ht⟩
  · injection h0 with e1 e2 e3
    subst e1 e2 e3
    exact ⟨Nat.le_refl _, Nat.zero_le _, .inl ⟨rfl, rfl⟩⟩
  · injection he with e1 e2 e3
    subst e1 e3
    exact ⟨hn, hm, .inr ⟨g, 0, rfl⟩⟩

theorem Strs.take {w : World} {a : Option Addr} {n : Nat} {l : List ByteArray} (h : Strs w a n l) {k : Nat} (hk : k ≤ n) : Strs w a k (l.take k) := by
  obtain ⟨h1, h2, h3⟩ := h
  refine ⟨by rw [List.length_take]; omega, fun s hs => h2 s (List.mem_of_mem_take hs), ?_⟩
  rcases h3 with h0 | ⟨b, off, ha, hlt, hc⟩
  · exact .inl (by omega)
  · by_cases hk0 : k = 0
    · exact .inl hk0
    · refine .inr ⟨b, off, ha, hlt, fun i hi => ?_⟩
      have hil : i < l.length := by rw [List.length_take] at hi; omega
      rw [List.getElem_take]
      exact hc i hil

theorem Strs.drop {w : World} {b off n : Nat} {l : List ByteArray} (h : Strs w (some ⟨b, off, none⟩) n l) {k : Nat} (hk : k ≤ n) : Strs w (some ⟨b, off + k, none⟩) (n - k) (l.drop k) := by
  obtain ⟨h1, h2, h3⟩ := h
  refine ⟨by rw [List.length_drop]; omega, fun s hs => h2 s (List.mem_of_mem_drop hs), ?_⟩
  rcases h3 with h0 | ⟨b', off', ha, hlt, hc⟩
  · exact .inl (by omega)
  · injection ha with ha
    injection ha with e1 e2
    subst e1 e2
    refine .inr ⟨b, off + k, rfl, hlt, fun i hi => ?_⟩
    have hil : k + i < l.length := by rw [List.length_drop] at hi; omega
    have := hc (k + i) hil
    rw [List.getElem_drop]
    rw [show off + k + i = off + (k + i) by omega]
    exact this

theorem Strs.gone {w : World} {a : Option Addr} {n : Nat} {l : List ByteArray} (h : Strs w a n l) (a' : Option Addr) {k : Nat} (hk : n ≤ k) : Strs w a' 0 (l.drop k) := by
  have : l.drop k = [] := List.drop_of_length_le (by have := h.1; omega)
  rw [this]
  exact ⟨rfl, by simp, .inl rfl⟩

end Go.Proofs.YtemcjenpgdieoaaGreatDoor

namespace Go.Proofs.YtemcjenpgdieoaaGreatDoor
open Go.RowKit
set_option linter.unusedVariables false

/-- Rows of different types do not lie in one block. -/
theorem rows_apart {W : World} {base base' n n' size size' : Nat} {e e' : TypeId} {v v' : Value} {xs xs' : List Value} (h : W.ownsRow base e size v n xs) (h' : W.ownsRow base' e' size' v' n' xs') (hne : e ≠ e') : ∀ q, v.ownBlock = some q → v'.ownBlock ≠ some q := by
  intro q hq hq'
  rcases h.2 with ⟨rfl, _⟩ | ⟨g, cap, cur, rfl, _, hg, _⟩
  · cases hq
  · rcases h'.2 with ⟨rfl, _⟩ | ⟨g', cap', cur', rfl, _, hg', _⟩
    · cases hq'
    · obtain rfl : g = q := by simpa [Value.ownBlock] using hq
      obtain rfl : g' = g := by simpa [Value.ownBlock] using hq'
      rw [hg] at hg'
      injection hg' with hg'
      injection hg' with _ h2 _
      exact hne h2

theorem blk_own (a : Option Addr) (n c : Nat) : blkOf (.slice a n c) = a.map (·.block) := by cases a <;> rfl

/-- Uploads are as they were where a row of texts is written. -/
theorem UpRow.keptS {W W' : World} {base base' n ca : Nat} {a : Option Addr} {v : Value} {l : List UE} {X : List ByteArray} (h : UpRow W base v l) (ho : OwnSt W base' (.slice a n ca) n X) (hg : W.grownBy W' (a.map (·.block))) : UpRow W' base v l := by
  have h9 : W.ownsRow base' 9 1 (.slice a n ca) n (scells X) := ho.1
  refine h.grown hg (fun q hq hq2 => ?_) (fun e he q hq hq2 => ?_)
  · exact rows_apart h9 h.1 (by decide) q (by rw [ownBlock_sU]; exact hq) hq2
  · exact rows_apart h9 (h.2.1 e he).1 (by decide) q (by rw [ownBlock_sU]; exact hq) (by rw [ownBlock_sU]; exact hq2)

/-- Texts are as they were where blocks of another type are written. -/
theorem OwnSt.keptR {W W' : World} {base base' n m ca size : Nat} {a : Option Addr} {e : TypeId} {v : Value} {xs : List Value} {X : List ByteArray} (ho : OwnSt W base (.slice a n ca) n X) (h : W.ownsRow base' e size v m xs) (hne : 9 ≠ e) (hg : W.grownBy W' v.ownBlock) : OwnSt W' base (.slice a n ca) n X := by
  have h9 : W.ownsRow base 9 1 (.slice a n ca) n (scells X) := ho.1
  refine ho.kept hg (fun q hq hq2 => ?_)
  rw [blk_own] at hq2
  exact rows_apart h9 h hne q (by rw [ownBlock_sU]; exact hq2) hq

/-- A store's three rows, of a call's own. -/
structure StoAt (W : World) (base : Nat) (a : Option Addr) (n ca : Nat) (X : List ByteArray) (a' : Option Addr) (n' ca' : Nat) (Y : List ByteArray) (ua : Option Addr) (un uc : Nat) (l : List UE) : Prop where
  now : OwnSt W base (.slice a n ca) n X
  sure : OwnSt W base (.slice a' n' ca') n' Y
  apart : ∀ q, a.map (·.block) = some q → a'.map (·.block) ≠ some q
  ups : UpRow W base (.slice ua un uc) l
  len : un = l.length

section
variable {W W' : World} {base : Nat} {a : Option Addr} {n ca : Nat} {X : List ByteArray} {a' : Option Addr} {n' ca' : Nat} {Y : List ByteArray} {ua : Option Addr} {un uc : Nat} {l : List UE}

theorem StoAt.stays (h : StoAt W base a n ca X a' n' ca' Y ua un uc l) (hb : Below W.heap.size W W') : StoAt W' base a n ca X a' n' ca' Y ua un uc l :=
  ⟨h.now.below hb, h.sure.below hb, h.apart, h.ups.stays hb, h.len⟩

theorem StoAt.low {b : Nat} (h : StoAt W base a n ca X a' n' ca' Y ua un uc l) (hb : b ≤ base) : StoAt W b a n ca X a' n' ca' Y ua un uc l :=
  ⟨h.now.low hb, h.sure.low hb, h.apart, h.ups.low hb, h.len⟩
end

/-- What lies below a bound stays. -/
theorem OwnSt.under {W W' : World} {base n ca B : Nat} {a : Option Addr} {X : List ByteArray} (h : OwnSt W base (.slice a n ca) n X) (hb : Below B W W') (h1 : ∀ q, a.map (·.block) = some q → q < B) : OwnSt W' base (.slice a n ca) n X := by
  refine ⟨⟨h.1.1, ?_⟩, h.2⟩
  rcases h.1.2 with h0 | ⟨g, cap, cur, he, hg, hh, r⟩
  · exact .inl h0
  · injection he with e1 e2 e3
    subst e1 e3
    exact .inr ⟨g, ca, cur, rfl, hg, (hb.block g (h1 g rfl)).trans hh, r⟩

theorem StoAt.setLow {W : World} {base b i : Nat} {a : Option Addr} {n ca : Nat} {X : List ByteArray} {a' : Option Addr} {n' ca' : Nat} {Y : List ByteArray} {ua : Option Addr} {un uc : Nat} {l : List UE} (h : StoAt W base a n ca X a' n' ca' Y ua un uc l) (hb : b < base) (u : Value) : StoAt (W.setCell ⟨b, i, none⟩ u) base a n ca X a' n' ca' Y ua un uc l := by
  refine ⟨h.now.setCell (fun e => ?_) u, h.sure.setCell (fun e => ?_) u, h.apart, h.ups.grown (grownBy_setU W b i u) (fun q hq hq2 => ?_) (fun e he q hq hq2 => ?_), h.len⟩
  · have := (h.now.lt b e).1; omega
  · have := (h.sure.lt b e).1; omega
  · injection hq with hq; have := (h.ups.lts.1 q hq2).1; omega
  · injection hq with hq; have := (h.ups.lts.2 e he q hq2).1; omega

/-- An answer that is a store. -/
def AnsS (base : Nat) (X Y : List ByteArray) (ep nx : Int) (us : List U) (v : Value) (w' : World) : Prop :=
  ∃ (a : Option Addr) (n ca : Nat) (a' : Option Addr) (n' ca' : Nat) (ua : Option Addr) (un uc : Nat) (l : List UE), v = .agg #[.slice a n ca, .slice a' n' ca', .int .i64 ep, .int .i64 nx, .slice ua un uc] ∧ StoAt w' base a n ca X a' n' ca' Y ua un uc l ∧ l.map UE.u = us

/-- The rows of a store lie below a bound. -/
def StoIn (a a' ua : Option Addr) (l : List UE) (hi : Nat) : Prop := (∀ q, a.map (·.block) = some q → q < hi) ∧ (∀ q, a'.map (·.block) = some q → q < hi) ∧ (∀ q, ua.map (·.block) = some q → q < hi) ∧ ∀ e ∈ l, ∀ q, e.a.map (·.block) = some q → q < hi

end Go.Proofs.YtemcjenpgdieoaaGreatDoor

namespace Go.Proofs.YtemcjenpgdieoaaGreatDoor
open Go.RowKit
set_option linter.unusedVariables false

theorem OwnSt.same {W W' : World} {base n c : Nat} {a : Option Addr} {l : List ByteArray} (h : OwnSt W base (.slice a n c) n l) (hq : ∀ q, a.map (·.block) = some q → W'.heap[q]? = W.heap[q]?) : OwnSt W' base (.slice a n c) n l := ⟨own_same h.1 (fun q e => hq q (by rw [← ownBlock_sU a n c]; exact e)), h.2⟩

theorem StoAt.same {W W' : World} {base : Nat} {a : Option Addr} {n ca : Nat} {X : List ByteArray} {a' : Option Addr} {n' ca' : Nat} {Y : List ByteArray} {ua : Option Addr} {un uc : Nat} {l : List UE} (h : StoAt W base a n ca X a' n' ca' Y ua un uc l) {hi : Nat} (hin : StoIn a a' ua l hi) (hs : ∀ q, base ≤ q → q < hi → q < W.heap.size → W'.heap[q]? = W.heap[q]?) : StoAt W' base a n ca X a' n' ca' Y ua un uc l := by
  refine ⟨h.now.same (fun q e => ?_), h.sure.same (fun q e => ?_), h.apart, h.ups.same (fun q e => ?_) (fun x hx q e => ?_), h.len⟩
  · have := h.now.lt q (by rw [blk_own]; exact e); exact hs q this.1 (hin.1 q e) this.2
  · have := h.sure.lt q (by rw [blk_own]; exact e); exact hs q this.1 (hin.2.1 q e) this.2
  · have := h.ups.lts.1 q e; exact hs q this.1 (hin.2.2.1 q (by rw [← ownBlock_sU ua un uc]; exact e)) this.2
  · have := h.ups.lts.2 x hx q e; exact hs q this.1 (hin.2.2.2 x hx q e) this.2

/-- A variable that holds a store. -/
structure SAt (W : World) (lo b : Nat) (a : Option Addr) (n ca : Nat) (X : List ByteArray) (a' : Option Addr) (n' ca' : Nat) (Y : List ByteArray) (ep nx : Int) (ua : Option Addr) (un uc : Nat) (l : List UE) : Prop where
  box : BoxN W b 29 [.slice a n ca, .slice a' n' ca', .int .i64 ep, .int .i64 nx, .slice ua un uc]
  sto : StoAt W lo a n ca X a' n' ca' Y ua un uc l
  inn : StoIn a a' ua l b
  lob : lo ≤ b

section
variable {W W' : World} {lo b : Nat} {a : Option Addr} {n ca : Nat} {X : List ByteArray} {a' : Option Addr} {n' ca' : Nat} {Y : List ByteArray} {ep nx : Int} {ua : Option Addr} {un uc : Nat} {l : List UE}

theorem StoAt.inn (h : StoAt W lo a n ca X a' n' ca' Y ua un uc l) : StoIn a a' ua l W.heap.size :=
  ⟨fun q e => (h.now.lt q (by rw [blk_own]; exact e)).2, fun q e => (h.sure.lt q (by rw [blk_own]; exact e)).2, fun q e => (h.ups.lts.1 q (by rw [ownBlock_sU]; exact e)).2, fun x hx q e => (h.ups.lts.2 x hx q e).2⟩

theorem SAt.new (h : StoAt W lo a n ca X a' n' ca' Y ua un uc l) (hl : lo ≤ W.heap.size) : SAt (W.alloc (.cells #[.slice a n ca, .slice a' n' ca', .int .i64 ep, .int .i64 nx, .slice ua un uc] 29)) lo W.heap.size a n ca X a' n' ca' Y ep nx ua un uc l :=
  ⟨BoxN.new _ _ _, h.stays ((Below.refl _ _).alloc (Nat.le_refl _) _), h.inn, hl⟩

theorem SAt.stays (h : SAt W lo b a n ca X a' n' ca' Y ep nx ua un uc l) (hb : Below W.heap.size W W') : SAt W' lo b a n ca X a' n' ca' Y ep nx ua un uc l := ⟨h.box.stays hb, h.sto.stays hb, h.inn, h.lob⟩

theorem SAt.kept {lo2 hi2 : Nat} (h : SAt W lo b a n ca X a' n' ca' Y ep nx ua un uc l) (hw : Within W W' lo2 hi2) (ho : b < lo2 ∨ hi2 ≤ lo) : SAt W' lo b a n ca X a' n' ca' Y ep nx ua un uc l :=
  ⟨(hw.block b h.box.lt (by have := h.lob; omega)).trans h.box, h.sto.same h.inn (fun q h1 h2 h3 => hw.block q h3 (by omega)), h.inn, h.lob⟩

end

/-- An answered store, the lengths of its rows said. -/
theorem AnsS.get {base : Nat} {X Y : List ByteArray} {ep nx : Int} {us : List U} {v : Value} {w' : World} (h : AnsS base X Y ep nx us v w') : ∃ (a : Option Addr) (ca : Nat) (a' : Option Addr) (ca' : Nat) (ua : Option Addr) (uc : Nat) (l : List UE), v = .agg #[.slice a X.length ca, .slice a' Y.length ca', .int .i64 ep, .int .i64 nx, .slice ua us.length uc] ∧ StoAt w' base a X.length ca X a' Y.length ca' Y ua us.length uc l ∧ l.map UE.u = us := by
  obtain ⟨a, n, ca, a', n', ca', ua, un, uc, l, rfl, hs, hm⟩ := h
  have h1 : n = X.length := by have := hs.now.1.1; simpa [scells] using this.symm
  have h2 : n' = Y.length := by have := hs.sure.1.1; simpa [scells] using this.symm
  have h3 : un = us.length := by rw [hs.len, ← hm, List.length_map]
  subst h1 h2 h3
  exact ⟨a, ca, a', ca', ua, uc, l, rfl, hs, hm⟩

end Go.Proofs.YtemcjenpgdieoaaGreatDoor

namespace Go.Proofs.YtemcjenpgdieoaaGreatDoor
open Go.RowKit
set_option linter.unusedVariables false

/-- All blocks of texts are as they were. -/
def KeptT (w w' : World) : Prop := ∀ (q : Nat) (cs : Array Value) (z : Nat × Nat), w.heap[q]? = some (.cells cs 9 z) → w'.heap[q]? = some (.cells cs 9 z)

theorem KeptT.refl (w : World) : KeptT w w := fun _ _ _ h => h
theorem KeptT.trans {w w1 w2 : World} (h : KeptT w w1) (k : KeptT w1 w2) : KeptT w w2 := fun q cs z e => k q cs z (h q cs z e)
theorem keptT_below {w w' : World} (h : Below w.heap.size w w') : KeptT w w' := fun q cs z e => (h.block q (Array.getElem?_eq_some_iff.1 e).1).trans e

theorem keptT_grown {w w' : World} {base n size : Nat} {e : TypeId} {v : Value} {xs : List Value} (h : w.grownBy w' v.ownBlock) (ho : w.ownsRow base e size v n xs) (hne : e ≠ 9) : KeptT w w' := by
  intro q cs z hq
  refine (h.block q (Array.getElem?_eq_some_iff.1 hq).1 (fun e1 => ?_)).trans hq
  rcases ho.2 with ⟨rfl, _⟩ | ⟨g, cap, cur, rfl, _, hg, _⟩
  · cases e1
  · obtain rfl : q = g := by simpa [Value.ownBlock] using e1
    rw [hq] at hg
    injection hg with hg
    injection hg with _ h2 _
    exact hne h2.symm

theorem OwnSt.keptT {w w' : World} {base n : Nat} {v : Value} {l : List ByteArray} (h : OwnSt w base v n l) (k : KeptT w w') : OwnSt w' base v n l := by
  refine ⟨⟨h.1.1, ?_⟩, h.2⟩
  rcases h.1.2 with h0 | ⟨g, cap, cur, he, hg, hh, r⟩
  · exact .inl h0
  · exact .inr ⟨g, cap, cur, he, hg, k g cur _ hh, r⟩

end Go.Proofs.YtemcjenpgdieoaaGreatDoor
