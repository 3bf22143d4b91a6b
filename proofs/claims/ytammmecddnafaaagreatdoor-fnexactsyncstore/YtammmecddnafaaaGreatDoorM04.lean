/- A variable of two cells: no program in it. Rows of texts and the block that they lie in. No program in it but its table of types. Rows of texts cut in two. No program in it but its table of types. A store in memory: its two rows of texts and its uploads, of a call's own. No program in it but its table of types. A list of bytes that comes in, in a struct. Uploads that come in: their cells, their bytes wherever they lie. An upload written into a row. No program in it but its table of types. The comparison of bytes that the laws call. For slices of at most 2^40 bytes. What the functions that the laws call do to the world: the copy of bytes. Each for slices of at most 2^40 bytes. A region that draws its order, whose operations only read and whose callees leave all that was there: walked once, in the order of the text. No program in it. What the laws' own functions do with uploads: the size, the copy, the comparison. The copy of uploads. How great rows of texts are. The copy of a row of texts. -/
import Derived.Test.YtammmecddnafaaaGreatDoorM01
import Derived.Test.YtammmecddnafaaaGreatDoorM03
import Derived.Deep.Slices
import Derived.Lib.SmallJoins
import Derived.OpenShut
import Derived.ChangeOld
import Derived.WalkKit
import Derived.ProofKit
import Derived.Deep.SlicePairs
import Derived.Test.YtammmecddnafaaaGreatDoorRows
import Derived.Deep.QuietTactic
import Derived.BigQuiet
namespace Go.Proofs.YtammmecddnafaaaGreatDoor
open Go.RowKit
set_option linter.unusedVariables false

/-- The block holds a variable of two cells. -/
def Box2R (W : World) (b : Nat) (t : TypeId) (x y : Value) : Prop := W.heap[b]? = some (.cells #[x, y] t (0, 0))

theorem Box2R.lt {W : World} {b : Nat} {t : TypeId} {x y : Value} (h : Box2R W b t x y) : b < W.heap.size := (Array.getElem?_eq_some_iff.1 h).1

theorem Box2R.stays {W W' : World} {b : Nat} {t : TypeId} {x y : Value} (h : Box2R W b t x y) (hb : Below W.heap.size W W') : Box2R W' b t x y := (hb.block b h.lt).trans h

theorem Box2R.alloc {W : World} {b : Nat} {t : TypeId} {x y : Value} (h : Box2R W b t x y) (o : Obj) : Box2R (W.alloc o) b t x y := h.stays ((Below.refl _ _).alloc (Nat.le_refl _) _)

theorem Box2R.new (W : World) (t : TypeId) (x y : Value) : Box2R (W.alloc (.cells #[x, y] t)) W.heap.size t x y := heap_alloc_new W _

theorem Box2R.cells {W : World} {b : Nat} {t : TypeId} {x y : Value} (h : Box2R W b t x y) : W.cell? ⟨b, 0, none⟩ = some x ∧ W.cell? ⟨b, 1, none⟩ = some y := by
  have h' : W.heap[b]? = some (.cells #[x, y] t (0, 0)) := h
  exact ⟨by rw [cell_of_row _ _ _ _ _ _ h']; rfl, by rw [cell_of_row _ _ _ _ _ _ h']; rfl⟩

theorem Box2R.frozen {W : World} {b : Nat} {t : TypeId} {x y : Value} (h : Box2R W b t x y) (i : Nat) : W.frozen? ⟨b, i, none⟩ = false := by simp [World.frozen?, show W.heap[b]? = _ from h]

theorem Box2R.grown {W W' : World} {b : Nat} {t : TypeId} {x y : Value} {r : Option Nat} (h : Box2R W b t x y) (hg : W.grownBy W' r) (hr : r ≠ some b) : Box2R W' b t x y := (hg.block b h.lt (Ne.symm hr)).trans h

theorem Box2R.set0 {W : World} {b : Nat} {t : TypeId} {x y : Value} (h : Box2R W b t x y) (v : Value) : Box2R (W.setCell ⟨b, 0, none⟩ v) b t v y := by
  show (W.setCell ⟨b, 0, none⟩ v).heap[b]? = _
  rw [setCell_eq_setRow W b 0 _ t (0, 0) _ h, setRow_heap W b _ _ t (0, 0) h]
  rfl

theorem Box2R.set1 {W : World} {b : Nat} {t : TypeId} {x y : Value} (h : Box2R W b t x y) (v : Value) : Box2R (W.setCell ⟨b, 1, none⟩ v) b t x v := by
  show (W.setCell ⟨b, 1, none⟩ v).heap[b]? = _
  rw [setCell_eq_setRow W b 1 _ t (0, 0) _ h, setRow_heap W b _ _ t (0, 0) h]
  rfl

theorem Box2R.other {W : World} {b b' k : Nat} {t : TypeId} {x y : Value} (h : Box2R W b t x y) (hne : b ≠ b') (v : Value) : Box2R (W.setCell ⟨b', k, none⟩ v) b t x y := (set_block_ne W b b' k v hne).trans h

end Go.Proofs.YtammmecddnafaaaGreatDoor

namespace Go.Proofs.YtammmecddnafaaaGreatDoor
open Go.RowKit
set_option linter.unusedVariables false

/-- What lies behind a slice value, if it has a block. -/
def blkOf : Value → Option Nat
  | .slice (some p) _ _ => some p.block
  | _ => none

theorem OwnSt.low {w : World} {base lo n : Nat} {v : Value} {l : List ByteArray} (h : OwnSt w base v n l) (hl : lo ≤ base) : OwnSt w lo v n l := by
  refine ⟨⟨h.1.1, ?_⟩, h.2⟩
  rcases h.1.2 with h0 | ⟨g, cap, cur, he, hg, r⟩
  · exact .inl h0
  · exact .inr ⟨g, cap, cur, he, Nat.le_trans hl hg, r⟩

theorem OwnSt.lt {w : World} {base n : Nat} {v : Value} {l : List ByteArray} (h : OwnSt w base v n l) : ∀ q, blkOf v = some q → base ≤ q ∧ q < w.heap.size := by
  intro q hq
  rcases h.1.2 with ⟨rfl, _⟩ | ⟨g, cap, cur, rfl, hg, hh, _⟩
  · simp [blkOf] at hq
  · obtain rfl : g = q := by simpa [blkOf] using hq
    exact ⟨hg, (Array.getElem?_eq_some_iff.1 hh).1⟩

theorem OwnSt.kept {w w' : World} {base n : Nat} {v : Value} {l : List ByteArray} {r : Option Nat} (h : OwnSt w base v n l) (hg : w.grownBy w' r) (hr : ∀ q, r = some q → blkOf v ≠ some q) : OwnSt w' base v n l := by
  refine h.grown hg fun q hq p m c hv hne => hr q hq ?_
  rw [hv, ← hne]
  rfl

theorem OwnSt.setCell {w : World} {base n : Nat} {v : Value} {l : List ByteArray} (h : OwnSt w base v n l) {b k : Nat} (hb : blkOf v ≠ some b) (u : Value) : OwnSt (w.setCell ⟨b, k, none⟩ u) base v n l := by
  refine ⟨⟨h.1.1, ?_⟩, h.2⟩
  rcases h.1.2 with h0 | ⟨g, cap, cur, rfl, hg, hh, r⟩
  · exact .inl h0
  · exact .inr ⟨g, cap, cur, rfl, hg, (set_block_ne w g b k u (fun e => hb (by rw [blkOf, e]))).trans hh, r⟩

end Go.Proofs.YtammmecddnafaaaGreatDoor

namespace Go.Proofs.YtammmecddnafaaaGreatDoor
open Go.RowKit
set_option linter.unusedVariables false

/-- A slice value whose parts may be taken. -/
def SlOk (a : Option Addr) (n ca : Nat) : Prop := n ≤ ca ∧ ca ≤ maxLen ∧ ((a = none ∧ ca = 0) ∨ ∃ b off, a = some ⟨b, off, none⟩)

theorem OwnSt.sl {w : World} {base n ca : Nat} {a : Option Addr} {l : List ByteArray} (h : OwnSt w base (.slice a n ca) n l) : SlOk a n ca := by
  rcases h.1.2 with ⟨h0, h1⟩ | ⟨g, cap, cur, he, hb, hg, hn, hm, hc, ht⟩
  · injection h0 with e1 e2 e3
    subst e1 e2 e3
    exact ⟨Nat.le_refl _, Nat.zero_le _, .inl ⟨rfl, rfl⟩⟩
  · injection he with e1 e2 e3
    subst e1 e3
    exact ⟨hn, hm, .inr ⟨g, 0, rfl⟩⟩

theorem Strs.take {w : World} {a : Option Addr} {n : Nat} {l : List ByteArray} (h : Strs w a n l) {k : Nat} (hk : k ≤ n) : Strs w a k (l.take k) := by
  obtain ⟨h1, h2, h3⟩ := h
  refine ⟨by rw [List.length_take]; omega, fun s hs => h2 s (List.mem_of_mem_take hs), ?_⟩
  rcases h3 with h0 | ⟨b, off, ha, hlt, hc⟩
  · exact .inl (by omega)
  · by_cases hk0 : k = 0
    · exact .inl hk0
    · refine .inr ⟨b, off, ha, hlt, fun i hi => ?_⟩
      have hil : i < l.length := by rw [List.length_take] at hi; omega
      rw [List.getElem_take]
      exact hc i hil

theorem Strs.drop {w : World} {b off n : Nat} {l : List ByteArray} (h : Strs w (some ⟨b, off, none⟩) n l) {k : Nat} (hk : k ≤ n) : Strs w (some ⟨b, off + k, none⟩) (n - k) (l.drop k) := by
  obtain ⟨h1, h2, h3⟩ := h
  refine ⟨by rw [List.length_drop]; omega, fun s hs => h2 s (List.mem_of_mem_drop hs), ?_⟩
  rcases h3 with h0 | ⟨b', off', ha, hlt, hc⟩
  · exact .inl (by omega)
  · injection ha with ha
    injection ha with e1 e2
    subst e1 e2
    refine .inr ⟨b, off + k, rfl, hlt, fun i hi => ?_⟩
    have hil : k + i < l.length := by rw [List.length_drop] at hi; omega
    have := hc (k + i) hil
    rw [List.getElem_drop]
    rw [show off + k + i = off + (k + i) by omega]
    exact this

theorem Strs.gone {w : World} {a : Option Addr} {n : Nat} {l : List ByteArray} (h : Strs w a n l) (a' : Option Addr) {k : Nat} (hk : n ≤ k) : Strs w a' 0 (l.drop k) := by
  have : l.drop k = [] := List.drop_of_length_le (by have := h.1; omega)
  rw [this]
  exact ⟨rfl, by simp, .inl rfl⟩

end Go.Proofs.YtammmecddnafaaaGreatDoor

namespace Go.Proofs.YtammmecddnafaaaGreatDoor
open Go.RowKit
set_option linter.unusedVariables false

/-- Rows of different types do not lie in one block. -/
theorem rows_apart {W : World} {base base' n n' size size' : Nat} {e e' : TypeId} {v v' : Value} {xs xs' : List Value} (h : W.ownsRow base e size v n xs) (h' : W.ownsRow base' e' size' v' n' xs') (hne : e ≠ e') : ∀ q, v.ownBlock = some q → v'.ownBlock ≠ some q := by
  intro q hq hq'
  rcases h.2 with ⟨rfl, _⟩ | ⟨g, cap, cur, rfl, _, hg, _⟩
  · cases hq
  · rcases h'.2 with ⟨rfl, _⟩ | ⟨g', cap', cur', rfl, _, hg', _⟩
    · cases hq'
    · obtain rfl : g = q := by simpa [Value.ownBlock] using hq
      obtain rfl : g' = g := by simpa [Value.ownBlock] using hq'
      rw [hg] at hg'
      injection hg' with hg'
      injection hg' with _ h2 _
      exact hne h2

theorem blk_own (a : Option Addr) (n c : Nat) : blkOf (.slice a n c) = a.map (·.block) := by cases a <;> rfl

/-- Uploads are as they were where a row of texts is written. -/
theorem UpRow.keptS {W W' : World} {base base' n ca : Nat} {a : Option Addr} {v : Value} {l : List UE} {X : List ByteArray} (h : UpRow W base v l) (ho : OwnSt W base' (.slice a n ca) n X) (hg : W.grownBy W' (a.map (·.block))) : UpRow W' base v l := by
  have h9 : W.ownsRow base' 9 1 (.slice a n ca) n (scells X) := ho.1
  refine h.grown hg (fun q hq hq2 => ?_) (fun e he q hq hq2 => ?_)
  · exact rows_apart h9 h.1 (by decide) q (by rw [ownBlock_sU]; exact hq) hq2
  · exact rows_apart h9 (h.2.1 e he).1 (by decide) q (by rw [ownBlock_sU]; exact hq) (by rw [ownBlock_sU]; exact hq2)

/-- Texts are as they were where blocks of another type are written. -/
theorem OwnSt.keptR {W W' : World} {base base' n m ca size : Nat} {a : Option Addr} {e : TypeId} {v : Value} {xs : List Value} {X : List ByteArray} (ho : OwnSt W base (.slice a n ca) n X) (h : W.ownsRow base' e size v m xs) (hne : 9 ≠ e) (hg : W.grownBy W' v.ownBlock) : OwnSt W' base (.slice a n ca) n X := by
  have h9 : W.ownsRow base 9 1 (.slice a n ca) n (scells X) := ho.1
  refine ho.kept hg (fun q hq hq2 => ?_)
  rw [blk_own] at hq2
  exact rows_apart h9 h hne q (by rw [ownBlock_sU]; exact hq2) hq

/-- A store's three rows, of a call's own. -/
structure StoAt (W : World) (base : Nat) (a : Option Addr) (n ca : Nat) (X : List ByteArray) (a' : Option Addr) (n' ca' : Nat) (Y : List ByteArray) (ua : Option Addr) (un uc : Nat) (l : List UE) : Prop where
  now : OwnSt W base (.slice a n ca) n X
  sure : OwnSt W base (.slice a' n' ca') n' Y
  apart : ∀ q, a.map (·.block) = some q → a'.map (·.block) ≠ some q
  ups : UpRow W base (.slice ua un uc) l
  len : un = l.length

section
variable {W W' : World} {base : Nat} {a : Option Addr} {n ca : Nat} {X : List ByteArray} {a' : Option Addr} {n' ca' : Nat} {Y : List ByteArray} {ua : Option Addr} {un uc : Nat} {l : List UE}

theorem StoAt.stays (h : StoAt W base a n ca X a' n' ca' Y ua un uc l) (hb : Below W.heap.size W W') : StoAt W' base a n ca X a' n' ca' Y ua un uc l :=
  ⟨h.now.below hb, h.sure.below hb, h.apart, h.ups.stays hb, h.len⟩

theorem StoAt.low {b : Nat} (h : StoAt W base a n ca X a' n' ca' Y ua un uc l) (hb : b ≤ base) : StoAt W b a n ca X a' n' ca' Y ua un uc l :=
  ⟨h.now.low hb, h.sure.low hb, h.apart, h.ups.low hb, h.len⟩
end

/-- What lies below a bound stays. -/
theorem OwnSt.under {W W' : World} {base n ca B : Nat} {a : Option Addr} {X : List ByteArray} (h : OwnSt W base (.slice a n ca) n X) (hb : Below B W W') (h1 : ∀ q, a.map (·.block) = some q → q < B) : OwnSt W' base (.slice a n ca) n X := by
  refine ⟨⟨h.1.1, ?_⟩, h.2⟩
  rcases h.1.2 with h0 | ⟨g, cap, cur, he, hg, hh, r⟩
  · exact .inl h0
  · injection he with e1 e2 e3
    subst e1 e3
    exact .inr ⟨g, ca, cur, rfl, hg, (hb.block g (h1 g rfl)).trans hh, r⟩

theorem StoAt.setLow {W : World} {base b i : Nat} {a : Option Addr} {n ca : Nat} {X : List ByteArray} {a' : Option Addr} {n' ca' : Nat} {Y : List ByteArray} {ua : Option Addr} {un uc : Nat} {l : List UE} (h : StoAt W base a n ca X a' n' ca' Y ua un uc l) (hb : b < base) (u : Value) : StoAt (W.setCell ⟨b, i, none⟩ u) base a n ca X a' n' ca' Y ua un uc l := by
  refine ⟨h.now.setCell (fun e => ?_) u, h.sure.setCell (fun e => ?_) u, h.apart, h.ups.grown (grownBy_setU W b i u) (fun q hq hq2 => ?_) (fun e he q hq hq2 => ?_), h.len⟩
  · have := (h.now.lt b e).1; omega
  · have := (h.sure.lt b e).1; omega
  · injection hq with hq; have := (h.ups.lts.1 q hq2).1; omega
  · injection hq with hq; have := (h.ups.lts.2 e he q hq2).1; omega

/-- An answer that is a store. -/
def AnsS (base : Nat) (X Y : List ByteArray) (ep nx : Int) (us : List U) (v : Value) (w' : World) : Prop :=
  ∃ (a : Option Addr) (n ca : Nat) (a' : Option Addr) (n' ca' : Nat) (ua : Option Addr) (un uc : Nat) (l : List UE), v = .agg #[.slice a n ca, .slice a' n' ca', .int .i64 ep, .int .i64 nx, .slice ua un uc] ∧ StoAt w' base a n ca X a' n' ca' Y ua un uc l ∧ l.map UE.u = us

/-- The rows of a store lie below a bound. -/
def StoIn (a a' ua : Option Addr) (l : List UE) (hi : Nat) : Prop := (∀ q, a.map (·.block) = some q → q < hi) ∧ (∀ q, a'.map (·.block) = some q → q < hi) ∧ (∀ q, ua.map (·.block) = some q → q < hi) ∧ ∀ e ∈ l, ∀ q, e.a.map (·.block) = some q → q < hi

end Go.Proofs.YtammmecddnafaaaGreatDoor

namespace Go.Proofs.YtammmecddnafaaaGreatDoor
open Go.RowKit Go.ChangeShapes Go.WideShapes
set_option linter.unusedVariables false

theorem bytes_opened {H : Type} {enc : TypeId × Value → H} {w : World} {fuel : Nat} {v : Value} {x : DataW H × List MemPlace} (h : DataW.trod enc Tryz.prog w 0 (fun _ => true) true fuel 39 [v] = some x) :
    ∃ a len cap zs, v = .slice a len cap ∧ len ≤ cap ∧ len ≤ maxLen ∧ Seg w a len zs := by
  rcases Go.Deep.open_slice1 Tryz.underlying39 (by kernel_rfl) h with ⟨hcs, _⟩ | ⟨a, len, cap, m, n, V, D, Pl, hcs, _, hl, hm, hmm, _, hc⟩
  · simp at hcs
    exact ⟨none, 0, 0, [], hcs, Nat.le_refl _, Nat.zero_le _, rfl, by simp, .inl rfl⟩
  · simp at hcs hmm
    subst hmm
    have hs : ∀ i, i < m → ∃ z : Int, V i = .int .u8 z ∧ 0 ≤ z ∧ z ≤ 255 := by
      intro i hi
      obtain ⟨_, h0⟩ := hc i hi
      obtain ⟨z, e0, _, w0⟩ := DataW.trod_int Tryz.underlying5 h0
      exact ⟨z, by simpa using e0, bounds_u8 w0⟩
    refine ⟨some a, len, m, (List.range len).map fun i => if hi : i < m then Classical.choose (hs i hi) else 0, hcs, hl, by omega, by simp, ?_, ?_⟩
    · intro z hz
      obtain ⟨i, hi, rfl⟩ := List.mem_map.1 hz
      have him : i < m := by have := List.mem_range.1 hi; omega
      rw [dif_pos him]
      exact (Classical.choose_spec (hs i him)).2
    · by_cases h0 : len = 0
      · exact .inl h0
      · right
        obtain ⟨b, off, spot⟩ := a
        have hspot : spot = none := by simpa [Addr.add] using World.cell?_spot (hc 0 (by omega)).1
        subst hspot
        have key : ∀ i (hi : i < m), w.cell? ⟨b, off + i, none⟩ = some (.int .u8 (Classical.choose (hs i hi))) := by
          intro i hi
          have hq := Classical.choose_spec (hs i hi)
          have hcc := (hc i hi).1
          rw [← hq.1]
          by_cases hi0 : i = 0
          · subst hi0
            simpa [Addr.add] using hcc
          · simpa [Addr.add, hi0] using hcc
        refine ⟨b, off, rfl, lt_of_cell (key 0 (by omega)), fun i hi => ?_⟩
        have := key i (by omega)
        rw [this]
        simp [List.getD_eq_getElem?_getD, hi, show i < m by omega]

end Go.Proofs.YtammmecddnafaaaGreatDoor

namespace Go.Proofs.YtammmecddnafaaaGreatDoor
open Go.RowKit Go.ChangeShapes Go.WideShapes Go.Joins Go.Deep
set_option linter.unusedVariables false

/-- The slice (a, n) names these uploads. -/
def UpsI (w : World) (a : Option Addr) (n : Nat) (l : List UE) : Prop :=
  l.length = n ∧ (∀ e ∈ l, e.u.id.size ≤ maxLen ∧ e.n ≤ maxLen ∧ Seg w e.a e.n e.u.zs) ∧
  (n = 0 ∨ ∃ b off, a = some ⟨b, off, none⟩ ∧ b < w.heap.size ∧ ∀ i (hi : i < l.length), w.cell? ⟨b, off + i * 4, none⟩ = some (.string (l[i]).u.id) ∧ w.cell? ⟨b, off + i * 4 + 1, none⟩ = some (.int .i64 (l[i]).u.want) ∧ w.cell? ⟨b, off + i * 4 + 2, none⟩ = some (.slice (l[i]).a (l[i]).n (l[i]).c) ∧ w.cell? ⟨b, off + i * 4 + 3, none⟩ = some (.bool (l[i]).u.done))

theorem UpsI.below {w w' : World} {a : Option Addr} {n : Nat} {l : List UE} (h : UpsI w a n l) (hb : Below w.heap.size w w') : UpsI w' a n l := by
  obtain ⟨h1, h2, h3⟩ := h
  refine ⟨h1, fun e he => ⟨(h2 e he).1, (h2 e he).2.1, (h2 e he).2.2.below hb⟩, ?_⟩
  rcases h3 with h3 | ⟨b, off, rfl, hlt, hc⟩
  · exact .inl h3
  · refine .inr ⟨b, off, rfl, Nat.lt_of_lt_of_le hlt hb.size, fun i hi => ?_⟩
    obtain ⟨c0, c1, c2, c3⟩ := hc i hi
    exact ⟨(hb.cell (p := ⟨b, _, none⟩) hlt).trans c0, (hb.cell (p := ⟨b, _, none⟩) hlt).trans c1, (hb.cell (p := ⟨b, _, none⟩) hlt).trans c2, (hb.cell (p := ⟨b, _, none⟩) hlt).trans c3⟩

theorem UpsI.at {w : World} {a : Option Addr} {n : Nat} {l : List UE} (h : UpsI w a n l) {i : Nat} (hi : i < l.length) :
    ∃ b off, a = some ⟨b, off, none⟩ ∧ b < w.heap.size ∧ w.cell? ⟨b, off + i * 4, none⟩ = some (.string (l[i]).u.id) ∧ w.cell? ⟨b, off + i * 4 + 1, none⟩ = some (.int .i64 (l[i]).u.want) ∧ w.cell? ⟨b, off + i * 4 + 2, none⟩ = some (.slice (l[i]).a (l[i]).n (l[i]).c) ∧ w.cell? ⟨b, off + i * 4 + 3, none⟩ = some (.bool (l[i]).u.done) := by
  obtain ⟨h1, h2, h3⟩ := h
  rcases h3 with h3 | ⟨b, off, rfl, hlt, hc⟩
  · omega
  · exact ⟨b, off, rfl, hlt, hc i hi⟩

set_option maxRecDepth 100000 in
theorem up_cells {H : Type} {enc : TypeId × Value → H} {w : World} {n : Nat} {cs : List Value} {x : DataW H × List MemPlace} (h : DataW.trod enc Tryz.prog w 0 (fun _ => true) true n 77 cs = some x) :
    ∃ e : UE, cs = e.cells ∧ e.u.id.size ≤ maxLen ∧ e.n ≤ maxLen ∧ Seg w e.a e.n e.u.zs := by
  obtain ⟨xs, m, _, _, hl, hlen, hg⟩ := DataW.trod_struct Tryz.underlying77 h
  have hC : Tryz.prog.cellsOf 77 = 4 := by kernel_rfl
  rw [hC] at hl
  have k3 : Tryz.prog.cellsOf 3 = 1 := by kernel_rfl
  have k4 : Tryz.prog.cellsOf 4 = 1 := by kernel_rfl
  have k9 : Tryz.prog.cellsOf 9 = 1 := by kernel_rfl
  have kb : Tryz.prog.cellsOf 39 = 1 := by kernel_rfl
  match xs, hlen, cs, hl with
  | [y0, y1, y2, y3], _, [v0, v1, v2, v3], _ =>
    have g0 := hg 0 _ rfl
    have g1 := hg 1 _ rfl
    have g2 := hg 2 _ rfl
    have g3 := hg 3 _ rfl
    simp [k3, k4, k9, kb] at g0 g1 g2 g3
    obtain ⟨s, e0, _, z0⟩ := DataW.trod_string Tryz.underlying9 g0
    obtain ⟨i, e1, _, _⟩ := DataW.trod_int Tryz.underlying3 g1
    obtain ⟨b, e3, _⟩ := DataW.trod_bool Tryz.underlying4 g3
    obtain ⟨a, len, cap, zs, e2, _, hlm, hs⟩ := bytes_opened g2
    refine ⟨⟨⟨s, i, zs, b⟩, a, len, cap⟩, ?_, z0, hlm, hs⟩
    simp only [List.cons.injEq, and_true] at e0 e1 e3
    rw [UE.cells, e0, e1, e2, e3]

theorem UpsI.opened {H : Type} {enc : TypeId × Value → H} {w : World} {fuel : Nat} {v : Value} {x : DataW H × List MemPlace} (h : DataW.trod enc Tryz.prog w 0 (fun _ => true) true fuel 25 [v] = some x) :
    ∃ a len cap l, v = .slice a len cap ∧ len ≤ maxLen ∧ UpsI w a len l := by
  rcases Go.Deep.open_slice Tryz.underlying25 h with ⟨hcs, _⟩ | ⟨a, len, cap, m, n, D, Pl, hcs, _, hl, hm, hmm, _, hc⟩
  · simp at hcs
    exact ⟨none, 0, 0, [], hcs, Nat.zero_le _, rfl, by simp, .inl rfl⟩
  · simp at hcs hmm
    subst hmm
    have hC : Tryz.prog.cellsOf 77 = 4 := by kernel_rfl
    rw [hC] at hc
    have hs : ∀ i, i < m → ∃ e : UE, (w.cell? (a.add (i * 4)) = some (.string e.u.id) ∧ w.cell? (a.add (i * 4 + 1)) = some (.int .i64 e.u.want) ∧ w.cell? (a.add (i * 4 + 2)) = some (.slice e.a e.n e.c) ∧ w.cell? (a.add (i * 4 + 3)) = some (.bool e.u.done)) ∧ e.u.id.size ≤ maxLen ∧ e.n ≤ maxLen ∧ Seg w e.a e.n e.u.zs := by
      intro i hi
      obtain ⟨cs', h1, h2⟩ := hc i hi
      obtain ⟨e, rfl, r⟩ := up_cells h2
      obtain ⟨_, hlen, hcell⟩ := World.cells?_some h1
      have e0 := hcell 0 (by omega)
      have e1 := hcell 1 (by omega)
      have e2 := hcell 2 (by omega)
      have e3 := hcell 3 (by omega)
      rw [Go.Deep.add_add] at e0 e1 e2 e3
      exact ⟨e, ⟨by simpa [UE.cells] using e0, by simpa [UE.cells] using e1, by simpa [UE.cells] using e2, by simpa [UE.cells] using e3⟩, r⟩
    refine ⟨some a, len, m, (List.range len).map fun i => if hi : i < m then Classical.choose (hs i hi) else ⟨⟨⟨#[]⟩, 0, [], false⟩, none, 0, 0⟩, hcs, by omega, by simp, ?_, ?_⟩
    · intro f hf
      obtain ⟨i, hi, rfl⟩ := List.mem_map.1 hf
      have him : i < m := by have := List.mem_range.1 hi; omega
      rw [dif_pos him]
      exact (Classical.choose_spec (hs i him)).2
    · by_cases h0 : len = 0
      · exact .inl h0
      · right
        obtain ⟨b, off, spot⟩ := a
        have hspot : spot = none := by simpa [Addr.add] using World.cell?_spot (Classical.choose_spec (hs 0 (by omega))).1.1
        subst hspot
        have key : ∀ i (hi : i < m), w.cell? ⟨b, off + i * 4, none⟩ = some (.string (Classical.choose (hs i hi)).u.id) ∧ w.cell? ⟨b, off + i * 4 + 1, none⟩ = some (.int .i64 (Classical.choose (hs i hi)).u.want) ∧ w.cell? ⟨b, off + i * 4 + 2, none⟩ = some (.slice (Classical.choose (hs i hi)).a (Classical.choose (hs i hi)).n (Classical.choose (hs i hi)).c) ∧ w.cell? ⟨b, off + i * 4 + 3, none⟩ = some (.bool (Classical.choose (hs i hi)).u.done) := by
          intro i hi
          obtain ⟨⟨q0, q1, q2, q3⟩, _⟩ := Classical.choose_spec (hs i hi)
          generalize Classical.choose (hs i hi) = e at *
          refine ⟨?_, ?_, ?_, ?_⟩
          · by_cases hi0 : i = 0
            · subst hi0
              simpa [Addr.add] using q0
            · simpa [Addr.add, show ¬ i * 4 = 0 by omega] using q0
          · simpa [Addr.add, Nat.add_assoc] using q1
          · simpa [Addr.add, Nat.add_assoc] using q2
          · simpa [Addr.add, Nat.add_assoc] using q3
        refine ⟨b, off, rfl, lt_of_cell (key 0 (by omega)).1, fun i hi => ?_⟩
        have hil : i < len := by simpa using hi
        have := key i (by omega)
        simpa [show i < m by omega] using this

end Go.Proofs.YtammmecddnafaaaGreatDoor

namespace Go.Proofs.YtammmecddnafaaaGreatDoor
open Go.RowKit
set_option linter.unusedVariables false

/-- An upload is written into a row of the call's own. -/
theorem ueCells_put (M D : List UE) (e x : UE) :
    ((((ueCells (M ++ e :: D)).set (M.length * 4) (.string x.u.id)).set (M.length * 4 + 1) (.int .i64 x.u.want)).set (M.length * 4 + 2) (.slice x.a x.n x.c)).set (M.length * 4 + 3) (.bool x.u.done) = ueCells (M ++ x :: D) := by
  have hl := ueCells_len M
  rw [ueCells_append, ueCells_append, ueCells_cons, ueCells_cons]
  rw [List.set_append_right _ _ (by omega), hl, Nat.sub_self, List.set_cons_zero]
  rw [List.set_append_right _ _ (by omega), hl, show M.length * 4 + 1 - M.length * 4 = 1 by omega]
  rw [List.set_append_right _ _ (by omega), hl, show M.length * 4 + 2 - M.length * 4 = 2 by omega]
  rw [List.set_append_right _ _ (by omega), hl, show M.length * 4 + 3 - M.length * 4 = 3 by omega]
  rfl

theorem OwnU.put {w : World} {base g n C : Nat} {M D : List UE} {e : UE} (h : OwnU w base (some ⟨g, 0, none⟩) n C (M ++ e :: D)) (x : UE) :
    OwnU ((((w.setCell ⟨g, M.length * 4, none⟩ (.string x.u.id)).setCell ⟨g, M.length * 4 + 1, none⟩ (.int .i64 x.u.want)).setCell ⟨g, M.length * 4 + 2, none⟩ (.slice x.a x.n x.c)).setCell ⟨g, M.length * 4 + 3, none⟩ (.bool x.u.done)) base (some ⟨g, 0, none⟩) n C (M ++ x :: D) ∧ w.grownBy ((((w.setCell ⟨g, M.length * 4, none⟩ (.string x.u.id)).setCell ⟨g, M.length * 4 + 1, none⟩ (.int .i64 x.u.want)).setCell ⟨g, M.length * 4 + 2, none⟩ (.slice x.a x.n x.c)).setCell ⟨g, M.length * 4 + 3, none⟩ (.bool x.u.done)) (some g) := by
  have h0 : w.ownsRow base 69 4 (.slice (some ⟨g, 0, none⟩) n C) n (ueCells (M ++ e :: D)) := h
  have h1 := h0.stored (M.length * 4) (.string x.u.id)
  have h2 := h1.1.stored (M.length * 4 + 1) (.int .i64 x.u.want)
  have h3 := h2.1.stored (M.length * 4 + 2) (.slice x.a x.n x.c)
  have h4 := h3.1.stored (M.length * 4 + 3) (.bool x.u.done)
  have h5 := h4.1
  rw [ueCells_put] at h5
  exact ⟨h5, World.grownBy.trans (World.grownBy.trans (World.grownBy.trans h1.2 h2.2) h3.2) h4.2⟩

end Go.Proofs.YtammmecddnafaaaGreatDoor

namespace Go.Proofs.YtammmecddnafaaaGreatDoor
open Go.RowKit
set_option linter.unusedVariables false

set_option maxHeartbeats 400000 in
theorem eqByteS_same (a b : Option Addr) (len ca cb : Nat) (xs : List Int) (w : World) (hx : Seg w a len xs) (hy : Seg w b len xs) (hla : len ≤ 1099511627776) :
    Calls Tryz.prog 17 #[.slice a len ca, .slice b len cb] w fun e w' => e = .returned (.bool true) ∧ ∃ n, w' = w.drewN n := by
  have HX : Hid (Seg w a len xs) := hx
  have HY : Hid (Seg w b len xs) := hy
  clear hx hy
  have hne : ((len : Int) != (len : Int)) = false := by simp
  go_enter Tryz.func17, Tryz.ntmps17
  go_wp2
  go_loopw [5] (fun i wr => ∃ k : Nat, k ≤ len ∧ i = .int .i64 k ∧ Hid (∃ n, wr = w.drewN n)) (fun i _ => len - (intOf i).toNat)
  case atStart => exact ⟨0, Nat.zero_le _, rfl, ⟨0, rfl⟩⟩
  case round =>
    obtain ⟨k, hk, rfl, HW⟩ := hrel
    by_cases hlt : k < len
    · obtain ⟨ba, oa, rfl, hba, hca⟩ : ∃ b off, a = some ⟨b, off, none⟩ ∧ b < w.heap.size ∧ ∀ i, i < len → w.cell? ⟨b, off + i, none⟩ = some (.int .u8 (xs.getD i 0)) := by
        rcases HX.out.2.2 with h | h
        · omega
        · exact h
      obtain ⟨bb, ob, rfl, hbb, hcb⟩ : ∃ b' off, b = some ⟨b', off, none⟩ ∧ b' < w.heap.size ∧ ∀ i, i < len → w.cell? ⟨b', off + i, none⟩ = some (.int .u8 (xs.getD i 0)) := by
        rcases HY.out.2.2 with h | h
        · omega
        · exact h
      have ha : wr.cell? ⟨ba, oa + k, none⟩ = some (.int .u8 (xs.getD k 0)) := by obtain ⟨n, rfl⟩ := HW; exact hca k hlt
      have hb : wr.cell? ⟨bb, ob + k, none⟩ = some (.int .u8 (xs.getD k 0)) := by obtain ⟨n, rfl⟩ := HW; exact hcb k hlt
      clear hca hcb
      have hki : (k : Int) < (len : Int) := by omega
      have hk0 : (0 : Int) ≤ (k : Int) := by omega
      go_wp2
      go_quiet (fail)
      go_wp2
      go_roundw
      case rel =>
        refine ⟨k + 1, by omega, by go_num, ?_⟩
        obtain ⟨n, rfl⟩ := HW.out
        exact ⟨_, World.drewN_drewN _ _ _⟩
      case measure => simp [intOf]; omega
    · go_wp2
      go_ret
      exact ⟨rfl, HW.out⟩

end Go.Proofs.YtammmecddnafaaaGreatDoor

namespace Go.Proofs.YtammmecddnafaaaGreatDoor
open Go.RowKit
set_option linter.unusedVariables false

set_option maxHeartbeats 400000 in
theorem toByteS_any (a : Option Addr) (len cap : Nat) (zs : List Int) (w : World) (hs : Seg w a len zs) (hl : len ≤ 1099511627776) :
    Calls Tryz.prog 15 #[.slice a len cap] w fun e w' => e = .returned (.slice (some ⟨w.heap.size, 0, none⟩) len len) ∧
      w'.ownsRow w.heap.size 5 1 (.slice (some ⟨w.heap.size, 0, none⟩) len len) len (zs.map (Value.int .u8)) ∧ Below w.heap.size w w' := by
  obtain ⟨i0, hi, hz0, hz1, hz2⟩ := info_parts Tryz.info5
  have hzs : zs.length = len := hs.1
  have HS : Hid (Seg w a len zs) := hs
  clear hs
  go_enter Tryz.func15, Tryz.ntmps15
  go_wp2_with (at_make; refine wpList_make_full _ rfl _ _ 39 rfl w.heap.size 5 i0 (.int .u8 0) 1 Tryz.underlying39 hi hz0 hz1 _ _ _ _ len rfl rfl rfl rfl (by rw [hz2]; omega) (by unfold maxLen; omega) (Nat.le_refl _) ?_; intro w1 hown hgrow)
  have hrow : w1.ownsRow w.heap.size 5 1 (.slice (some ⟨w.heap.size, 0, none⟩) len len) len ((zs.take 0 ++ List.replicate (len - 0) 0).map (Value.int .u8)) := by
    simpa [toList_madeCells_one, Value.cells] using hown
  have hbel : Below w.heap.size w w1 := (Below.refl _ _).grown hgrow (Nat.le_refl _) (by simp)
  have HR := (show Hid _ from hrow)
  have HB := (show Hid _ from hbel)
  clear hown hgrow hrow hbel
  go_loopw [4] (fun i wr => ∃ k : Nat, k ≤ len ∧ i = .int .i64 k ∧ Hid (wr.ownsRow w.heap.size 5 1 (.slice (some ⟨w.heap.size, 0, none⟩) len len) len ((zs.take k ++ List.replicate (len - k) 0).map (Value.int .u8))) ∧ Hid (Below w.heap.size w wr)) (fun i _ => len - (intOf i).toNat)
  case atStart => exact ⟨0, Nat.zero_le _, rfl, HR, HB⟩
  case round =>
    clear HR HB
    obtain ⟨k, hk, rfl, HO, HB⟩ := hrel
    by_cases hlt : k < len
    · obtain ⟨b, off, rfl, hb, hc⟩ : ∃ b off, a = some ⟨b, off, none⟩ ∧ b < w.heap.size ∧ ∀ i, i < len → w.cell? ⟨b, off + i, none⟩ = some (.int .u8 (zs.getD i 0)) := by
        rcases HS.out.2.2 with h | h
        · omega
        · exact h
      have hcell : wr.cell? ⟨b, off + k, none⟩ = some (.int .u8 (zs.getD k 0)) := (HB.out.cell (p := ⟨b, off + k, none⟩) hb).trans (hc k hlt)
      have hfro : wr.frozen? ⟨w.heap.size, k, none⟩ = false := HO.out.frozenAt k
      obtain ⟨u, hu⟩ : ∃ u, wr.cell? ⟨w.heap.size, k, none⟩ = some u := by
        rw [HO.out.cellAt k (by omega)]
        exact ⟨_, List.getElem?_eq_getElem (by simp; omega)⟩
      clear hc
      go_wp2
      go_roundw
      case rel => 
        refine ⟨k + 1, by omega, by go_num, ?_, ?_⟩
        · have h := (HO.out.stored k (.int .u8 (zs.getD k 0))).1
          rw [copied_step zs k len hlt hzs] at h
          have hkz : k < zs.length := by omega
          show World.ownsRow _ _ _ _ _ _ _
          simpa [hkz] using h
        · exact HB.out.setCell (Nat.le_refl _) _
      case measure => simp [intOf]; omega
    · go_wp2
      go_ret
      have hkl : k = len := by omega
      subst hkl
      refine ⟨rfl, ?_, HB.out⟩
      have h := HO.out
      rw [List.take_of_length_le (by omega)] at h
      simpa using h

end Go.Proofs.YtammmecddnafaaaGreatDoor

namespace Go.Proofs.YtammmecddnafaaaGreatDoor
open Go.RowKit

/-- A world in which all that lay in w is as it was. -/
structure Past (w : World) where
  world : World
  below : Below w.heap.size w world

theorem wp_region_past {P : Program} {id : Nat} {Q : Exit → Act → World → Prop} {a : Act} {w : World} {l : List Oper} (hm : P.follows .mixedOrders = true) (hB : Region.lexB .any l.toArray = true)
    (h : wpQuiet P l.toArray (fun w' => ∃ p : Past w, w' = p.world) (fun a' => ∀ w', (∃ p : Past w, w' = p.world) → Q .normal a' w') l a) : (Code.region id l.toArray true).wp P Q a w :=
  wp_region_quiet (C := fun w' => ∃ p : Past w, w' = p.world) hm hB ⟨⟨w.drew, (Below.refl _ _).drew⟩, rfl⟩ (by simpa using h)

theorem calls_past {P : Program} {f : FuncId} {args : Array Value} {w : World} {p : Past w} {v : Value}
    (h : Calls P f args p.world fun e w' => e = .returned v ∧ Below p.world.heap.size p.world w') : Calls P f args p.world fun e w'' => e = .returned v ∧ ∃ p : Past w, w'' = p.world :=
  h.mono fun _ w' ⟨he, hb⟩ => ⟨he, ⟨w', p.below.trans (hb.mono p.below.size)⟩, rfl⟩

/-- One operation that is wanted. -/
theorem quiet_do {P : Program} {ops : Array Oper} {C : World → Prop} {Q : Act → Prop} {a : Act} {o : Oper} {rest : List Oper} (hw : Region.wanted o (yielded ops a.tmps) = true)
    (h : ∀ K : Act → Prop, (∀ a, wpQuiet P ops C Q rest a → K a) → o.quiet P a C K) : wpQuiet P ops C Q (o :: rest) a :=
  wpQuiet_step fun K hK => by rw [if_pos hw]; exact h K hK

/-- One that is not. -/
theorem quiet_skip {P : Program} {ops : Array Oper} {C : World → Prop} {Q : Act → Prop} {a : Act} {o : Oper} {rest : List Oper} (hw : Region.wanted o (yielded ops a.tmps) = false)
    (h : ∀ K : Act → Prop, (∀ a, wpQuiet P ops C Q rest a → K a) → K (a.put o.dst undef)) : wpQuiet P ops C Q (o :: rest) a :=
  wpQuiet_step fun K hK => by rw [if_neg (by rw [hw]; simp)]; exact h K hK

/-- One that is not: what is behind it. -/
theorem quiet_past {P : Program} {ops : Array Oper} {C : World → Prop} {Q : Act → Prop} {a : Act} {o : Oper} {rest : List Oper} (hw : Region.wanted o (yielded ops a.tmps) = false) (h : wpQuiet P ops C Q rest (a.put o.dst undef)) : wpQuiet P ops C Q (o :: rest) a :=
  quiet_skip hw fun _ hK => hK _ h

/-- As wp_region_past, the region's row hidden behind a name: then what an unwanted operation would do is not looked at. -/
theorem wp_region_pastO {P : Program} {id : Nat} {Q : Exit → Act → World → Prop} {a : Act} {w : World} {l : List Oper} (hm : P.follows .mixedOrders = true) (hB : Region.lexB .any l.toArray = true)
    (h : ∀ ops : Array Oper, Hid (ops = l.toArray) → wpQuiet P ops (fun w' => ∃ p : Past w, w' = p.world) (fun a' => ∀ w', (∃ p : Past w, w' = p.world) → Q .normal a' w') l a) : (Code.region id l.toArray true).wp P Q a w :=
  wp_region_past hm hB (h _ rfl)

theorem past_some (w : World) : Nonempty (Past w) := ⟨⟨w, Below.refl _ _⟩⟩

theorem Past.cell {w : World} (p : Past w) {a : Addr} {v : Value} (hb : a.block < w.heap.size) (h : w.cell? a = some v) : p.world.cell? a = some v := (p.below.cell hb).trans h

end Go.Proofs.YtammmecddnafaaaGreatDoor

namespace Go.Proofs.YtammmecddnafaaaGreatDoor
open Go.RowKit
set_option linter.unusedVariables false

set_option maxRecDepth 10000 in
set_option maxHeartbeats 800000 in
theorem szUp_any (x : UE) (m : Int) (w : World) (hn : 0 ≤ m) (hn2 : m ≤ 1048576) (hi : x.u.id.size ≤ maxLen) (hl : x.n ≤ maxLen) :
    Calls Tryz.prog 50 #[.agg #[.string x.u.id, .int .i64 x.u.want, .slice x.a x.n x.c, .bool x.u.done], .int .i64 m] w fun r w' => (∃ L : Int, r = .returned (.int .i64 L) ∧ (L < 0 ∨ (x.u.id.size ≤ 1048576 ∧ x.n ≤ 1048576 ∧ 0 ≤ L ∧ L ≤ m))) ∧ Below w.heap.size w w' := by
  have hm : maxLen < 9223372036854775808 := by decide
  have HB : Hid (Below w.heap.size w (w.alloc (.cells #[.string x.u.id, .int .i64 x.u.want, .slice x.a x.n x.c, .bool x.u.done] 77))) := (Below.refl _ _).alloc (Nat.le_refl _) _
  by_cases h1 : m - (x.u.id.size : Int) < 0
  · go_enter Tryz.func50, Tryz.ntmps50
    go_wp2_with fail
    go_ret
    exact ⟨⟨-1, rfl, .inl (by omega)⟩, HB.out⟩
  by_cases h2 : m - (x.u.id.size : Int) - (x.n : Int) < 0
  · go_enter Tryz.func50, Tryz.ntmps50
    go_wp2
    go_ret
    exact ⟨⟨-1, rfl, .inl (by omega)⟩, HB.out⟩
  · go_enter Tryz.func50, Tryz.ntmps50
    go_wp2
    go_ret
    exact ⟨⟨m - (x.u.id.size : Int) - (x.n : Int), rfl, .inr ⟨by omega, by omega, by omega, by omega⟩⟩, HB.out⟩

/-- How great uploads may be. -/
def SzU (n : Nat) (l : List UE) : Prop := n ≤ 1048576 ∧ ∀ e ∈ l, e.u.id.size ≤ 1048576 ∧ e.n ≤ 1048576

set_option maxRecDepth 10000 in
set_option maxHeartbeats 800000 in
theorem szUpS_any (a : Option Addr) (n c : Nat) (l : List UE) (m : Int) (w : World) (hx : UpsI w a n l) (hn : 0 ≤ m) (hn2 : m ≤ 1048576) (hl : n ≤ maxLen) :
    Calls Tryz.prog 24 #[.slice a n c, .int .i64 m] w fun e w' => (∃ L : Int, e = .returned (.int .i64 L) ∧ (L < 0 ∨ (SzU n l ∧ 0 ≤ L ∧ L ≤ m))) ∧ Below w.heap.size w w' := by
  have HX : Hid (UpsI w a n l) := hx
  clear hx
  have hm : maxLen < 9223372036854775808 := by decide
  by_cases h0 : m - n < 0
  · go_enter Tryz.func24, Tryz.ntmps24
    go_wp2
    go_ret
    exact ⟨⟨-1, rfl, .inl (by omega)⟩, Below.refl _ _⟩
  · go_enter Tryz.func24, Tryz.ntmps24
    go_wp2
    go_loopw [1, 5] (fun v i wr => ∃ (k : Nat) (u : Int), k ≤ n ∧ i = .int .i64 k ∧ v = .int .i64 u ∧ 0 ≤ u ∧ u ≤ m ∧ Hid (∀ j (hj : j < l.length), j < k → (l[j]).u.id.size ≤ 1048576 ∧ (l[j]).n ≤ 1048576) ∧ Hid (Below w.heap.size w wr)) (fun _ i _ => n - (intOf i).toNat)
    case atStart => exact ⟨0, m - n, Nat.zero_le _, rfl, rfl, by omega, by omega, fun j _ hj => absurd hj (Nat.not_lt_zero _), Below.refl _ _⟩
    case round =>
      obtain ⟨k, u, hk, rfl, rfl, hu, hum, HJ, HW⟩ := hrel
      by_cases hlt : k < n
      · have hkl : k < l.length := by rw [HX.out.1]; exact hlt
        obtain ⟨b, off, rfl, hb, g0, g1, g2, g3⟩ := (HX.out.below HW.out).at hkl
        have hsz := HX.out.2.1 (l[k]) (List.getElem_mem hkl)
        have HJ2 : Hid ((l[k]).u.id.size ≤ 1048576 ∧ (l[k]).n ≤ 1048576 → ∀ j (hj : j < l.length), j < k + 1 → (l[j]).u.id.size ≤ 1048576 ∧ (l[j]).n ≤ 1048576) := fun h j hj hjk => by
          by_cases e : j = k
          · subst e; exact h
          · exact HJ.out j hj (by omega)
        have hs1 := hsz.1
        have hs2 := hsz.2.1
        clear hsz HJ
        have hki : (k : Int) < (n : Int) := by omega
        have hk0 : (0 : Int) ≤ (k : Int) := by omega
        have hu2 : u ≤ 1048576 := by omega
        generalize l[k] = x at *
        go_wp2_with fail
        refine (szUp_any x u _ hu hu2 hs1 hs2).mono ?_
        rintro e x3 ⟨⟨L, rfl, hL⟩, hb3⟩
        have HB3 : Hid (Below w.heap.size w x3) := HW.out.trans (hb3.mono HW.out.size)
        have HL : Hid (L < 0 ∨ (x.u.id.size ≤ 1048576 ∧ x.n ≤ 1048576 ∧ 0 ≤ L ∧ L ≤ u)) := hL
        clear hb3 hL g0 g1 g2 g3
        by_cases hneg : L < 0
        · go_wp2
          go_ret
          exact ⟨⟨-1, rfl, .inl (by omega)⟩, HB3.out⟩
        · have h4 : x.u.id.size ≤ 1048576 ∧ x.n ≤ 1048576 ∧ 0 ≤ L ∧ L ≤ u := by
            rcases HL.out with h | h
            · exact absurd h hneg
            · exact h
          have HJ3 := HJ2.out ⟨h4.1, h4.2.1⟩
          have hL2 : L ≤ u := h4.2.2.2
          clear h4
          have HJ4 : Hid (∀ j (hj : j < l.length), j < k + 1 → (l[j]).u.id.size ≤ 1048576 ∧ (l[j]).n ≤ 1048576) := HJ3
          clear HJ3
          go_wp2
          go_roundw
          case rel => exact ⟨k + 1, L, by omega, by go_num, rfl, by omega, by omega, HJ4, HB3⟩
          case measure => simp [intOf]; omega
      · have HS : Hid (SzU n l) := ⟨by omega, fun e he => by
          obtain ⟨j, hj, rfl⟩ := List.getElem_of_mem he
          exact HJ.out j hj (by have := HX.out.1; omega)⟩
        clear HJ
        go_wp2
        go_ret
        exact ⟨⟨u, rfl, .inr ⟨HS.out, hu, hum⟩⟩, HW.out⟩

set_option maxRecDepth 10000 in
set_option maxHeartbeats 1600000 in
theorem toUp_any (x : UE) (w : World) (hs : Seg w x.a x.n x.u.zs) (hl : x.n ≤ 1048576) :
    Calls Tryz.prog 61 #[.agg #[.string x.u.id, .int .i64 x.u.want, .slice x.a x.n x.c, .bool x.u.done]] w fun r w' => (∃ g, r = .returned (.agg #[.string x.u.id, .int .i64 x.u.want, .slice (some ⟨g, 0, none⟩) x.n x.n, .bool x.u.done]) ∧ Owns w' w.heap.size (some ⟨g, 0, none⟩) x.n x.n x.u.zs) ∧ Below w.heap.size w w' := by
  have HS : Hid (Seg w x.a x.n x.u.zs) := hs
  clear hs
  obtain ⟨W0, hW0⟩ : ∃ W0, (((w.alloc (.cells #[.string x.u.id, .int .i64 x.u.want, .slice x.a x.n x.c, .bool x.u.done] 77)).alloc (.cells #[.string ⟨#[]⟩, .int .i64 0, .slice none 0 0, .bool false] 69)).alloc (.cells #[.string x.u.id, .int .i64 x.u.want, .slice none 0 0, .bool false] 69)) = W0 := ⟨_, rfl⟩
  have HE : Hid ((((w.alloc (.cells #[.string x.u.id, .int .i64 x.u.want, .slice x.a x.n x.c, .bool x.u.done] 77)).alloc (.cells #[.string ⟨#[]⟩, .int .i64 0, .slice none 0 0, .bool false] 69)).alloc (.cells #[.string x.u.id, .int .i64 x.u.want, .slice none 0 0, .bool false] 69)) = W0) := hW0
  have HB : Hid (Below w.heap.size w W0) := by show Below _ _ _; rw [← hW0]; exact (((Below.refl _ _).alloc (Nat.le_refl _) _).alloc (by simp) _).alloc (by simp; omega) _
  have HZ : Hid (W0.heap.size = w.heap.size + 3) := by show _ = _; rw [← hW0]; simp
  have HI : Hid (BoxN W0 w.heap.size 77 [.string x.u.id, .int .i64 x.u.want, .slice x.a x.n x.c, .bool x.u.done]) := by show BoxN _ _ _ _; rw [← hW0]; exact ((BoxN.new _ _ _).alloc _).alloc _
  have HR : Hid (BoxN W0 (w.heap.size + 1) 69 [.string ⟨#[]⟩, .int .i64 0, .slice none 0 0, .bool false]) := by
    show BoxN _ _ _ _
    rw [← hW0]
    have := (BoxN.new (w.alloc (.cells #[.string x.u.id, .int .i64 x.u.want, .slice x.a x.n x.c, .bool x.u.done] 77)) 69 [.string ⟨#[]⟩, .int .i64 0, .slice none 0 0, .bool false]).alloc (.cells #[.string x.u.id, .int .i64 x.u.want, .slice none 0 0, .bool false] 69)
    rw [World.size_alloc] at this
    exact this
  have HO : Hid (BoxN W0 (w.heap.size + 1 + 1) 69 [.string x.u.id, .int .i64 x.u.want, .slice none 0 0, .bool false]) := by
    show BoxN _ _ _ _
    rw [← hW0]
    have := BoxN.new ((w.alloc (.cells #[.string x.u.id, .int .i64 x.u.want, .slice x.a x.n x.c, .bool x.u.done] 77)).alloc (.cells #[.string ⟨#[]⟩, .int .i64 0, .slice none 0 0, .bool false] 69)) 69 [.string x.u.id, .int .i64 x.u.want, .slice none 0 0, .bool false]
    rw [World.size_alloc, World.size_alloc] at this
    exact this
  clear hW0
  go_enter Tryz.func61, Tryz.ntmps61
  go_wp2_with fail
  rw [HE.out]
  clear HE
  refine (toByteS_any x.a x.n x.c x.u.zs _ (HS.out.below HB.out) (by omega)).mono ?_
  rintro r x3 ⟨rfl, ho3, hb3⟩
  have i3 := HI.out.stays hb3
  have r3 := HR.out.stays hb3
  have o3 := HO.out.stays hb3
  have HO3 : Hid (Owns x3 W0.heap.size (some ⟨W0.heap.size, 0, none⟩) x.n x.n x.u.zs) := ⟨ho3, HS.out.2.1⟩
  have HB3 : Hid (Below w.heap.size w x3) := HB.out.trans (hb3.mono HB.out.size)
  have HL3 : Hid (w.heap.size + 1 + 1 < W0.heap.size) := HO.out.lt
  have i0 := i3.cell 3 rfl
  have a0 := r3.cell 0 rfl
  have a1 := r3.cell 1 rfl
  have a2 := r3.cell 2 rfl
  have a3 := r3.cell 3 rfl
  have fa0 := r3.frozen 0
  have fa1 := r3.frozen 1
  have fa2 := r3.frozen 2
  have fa3 := r3.frozen 3
  have b0 := o3.cell 0 rfl
  have b1 := o3.cell 1 rfl
  have b2 := o3.cell 2 rfl
  have b3 := o3.cell 3 rfl
  have fb2 := o3.frozen 2
  have fb3 := o3.frozen 3
  clear hb3 ho3 r3 o3 i3 HR HO HI
  go_wp2
  refine bodyPost_ret (v := .agg #[.string x.u.id, .int .i64 x.u.want, .slice (some ⟨W0.heap.size, 0, none⟩) x.n x.n, .bool x.u.done]) (by simp [results, Tryz.f61, go_sem, a0, a1, a2, a3]) rfl ?_
  have hz := HZ.out
  refine ⟨⟨_, rfl, ?_⟩, ?_⟩
  · have hA : ((some ⟨W0.heap.size, 0, none⟩ : Option Addr).map (·.block)) ≠ some (w.heap.size + 1) := by simp; omega
    have hB : ((some ⟨W0.heap.size, 0, none⟩ : Option Addr).map (·.block)) ≠ some (w.heap.size + 1 + 1) := by simp; omega
    exact (owns_set (owns_set (owns_set (owns_set (owns_set (owns_set HO3.out hB) hB) hA) hA) hA) hA).low (by omega)
  · exact (((((HB3.out.setCell (by dsimp only; omega) _).setCell (by dsimp only; omega) _).setCell (by dsimp only; omega) _).setCell (by dsimp only; omega) _).setCell (by dsimp only; omega) _).setCell (by dsimp only; omega) _

end Go.Proofs.YtammmecddnafaaaGreatDoor

namespace Go.Proofs.YtammmecddnafaaaGreatDoor
open Go.RowKit
set_option linter.unusedVariables false

/-- An upload of noughts. -/
abbrev unil : UE := ⟨⟨⟨#[]⟩, 0, [], false⟩, none, 0, 0⟩

theorem made_up (n : Nat) : (madeCells #[.string ⟨#[]⟩, .int .i64 0, .slice none 0 0, .bool false] (n * 4)).toList = ueCells (List.replicate n unil) := by
  have hl : (ueCells (List.replicate n unil)).length = n * 4 := by rw [ueCells_len, List.length_replicate]
  apply List.ext_getElem?
  intro j
  by_cases hj : j < n * 4
  · have hq : j / 4 < (List.replicate n unil).length := by rw [List.length_replicate]; omega
    obtain ⟨h0, h1, h2, h3⟩ := ueCells_at (List.replicate n unil) (j / 4) hq
    rw [List.getElem_replicate] at h0 h1 h2 h3
    have : j % 4 = 0 ∨ j % 4 = 1 ∨ j % 4 = 2 ∨ j % 4 = 3 := by omega
    rcases this with h | h | h | h
    · rw [show j / 4 * 4 = j by omega] at h0; rw [h0]; simp [madeCells, hj, h]
    · rw [show j / 4 * 4 + 1 = j by omega] at h1; rw [h1]; simp [madeCells, hj, h]
    · rw [show j / 4 * 4 + 2 = j by omega] at h2; rw [h2]; simp [madeCells, hj, h]
    · rw [show j / 4 * 4 + 3 = j by omega] at h3; rw [h3]; simp [madeCells, hj, h]
  · have h2 : (ueCells (List.replicate n unil))[j]? = none := List.getElem?_eq_none (by omega)
    rw [h2]
    simp [madeCells, hj]

/-- An upload comes into a row, with bytes of its own. -/
theorem UpRow.laid {W W' : World} {base g n c B : Nat} {M D : List UE} {e x : UE} (h : UpRow W base (.slice (some ⟨g, 0, none⟩) n c) (M ++ e :: D)) (hn : (M ++ e :: D).length = n) (hb : Below W.heap.size W W') (hx : Owns W' B x.a x.n x.c x.u.zs) (hB : W.heap.size ≤ B) :
    UpRow ((((W'.setCell ⟨g, M.length * 4, none⟩ (.string x.u.id)).setCell ⟨g, M.length * 4 + 1, none⟩ (.int .i64 x.u.want)).setCell ⟨g, M.length * 4 + 2, none⟩ (.slice x.a x.n x.c)).setCell ⟨g, M.length * 4 + 3, none⟩ (.bool x.u.done)) base (.slice (some ⟨g, 0, none⟩) n c) (M ++ x :: D) ∧ W'.grownBy ((((W'.setCell ⟨g, M.length * 4, none⟩ (.string x.u.id)).setCell ⟨g, M.length * 4 + 1, none⟩ (.int .i64 x.u.want)).setCell ⟨g, M.length * 4 + 2, none⟩ (.slice x.a x.n x.c)).setCell ⟨g, M.length * 4 + 3, none⟩ (.bool x.u.done)) (some g) := by
  have h' := h.stays hb
  have ho : OwnU W' base (some ⟨g, 0, none⟩) n c (M ++ e :: D) := by
    have := h'.1
    rw [hn] at this
    exact this
  have hp := ho.put x
  have hgl : g < W.heap.size := (h.lts.1 g rfl).2
  have hbg : base ≤ W.heap.size := by have := (h.lts.1 g rfl).1; omega
  have hxg : ∀ q, x.a.map (·.block) = some q → W.heap.size ≤ q := fun q hq => Nat.le_trans hB (hx.lt q hq).1
  refine ⟨⟨?_, ?_, ?_⟩, hp.2⟩
  · rw [show (M ++ x :: D).length = n by rw [← hn]; simp]
    exact hp.1
  · intro y hy
    have key : ∀ v ∈ M ++ e :: D, Owns _ base v.a v.n v.c v.u.zs := fun v hv => (h'.2.1 v hv).grown hp.2 (fun q hq => h'.rowApart (h'.2.1 v hv) q (by injection hq with hq; subst hq; rfl))
    rcases List.mem_append.1 hy with hy | hy
    · exact key y (List.mem_append_left _ hy)
    · rcases List.mem_cons.1 hy with rfl | hy
      · exact (hx.grown hp.2 (fun q hq hq2 => by injection hq with hq; have := hxg q hq2; omega)).low (by omega)
      · exact key y (List.mem_append_right _ (List.mem_cons_of_mem _ hy))
  · have h2 := h.2.2
    rw [List.pairwise_append, List.pairwise_cons] at h2 ⊢
    have hold : ∀ v ∈ M ++ e :: D, ∀ q, v.a.map (·.block) = some q → q < W.heap.size := fun v hv q hq => (h.lts.2 v hv q hq).2
    refine ⟨h2.1, ⟨fun y hy q hq hq2 => ?_, h2.2.1.2⟩, fun y hy z hz => ?_⟩
    · have h3 := hxg q hq
      have h4 := hold y (List.mem_append_right _ (List.mem_cons_of_mem _ hy)) q hq2
      omega
    · rcases List.mem_cons.1 hz with rfl | hz
      · intro q hq hq2
        have h3 := hxg q hq2
        have h4 := hold y (List.mem_append_left _ hy) q hq
        omega
      · exact h2.2.2 y hy z (List.mem_cons_of_mem _ hz)

set_option maxRecDepth 10000 in
set_option maxHeartbeats 1600000 in
theorem toUpS_any (a : Option Addr) (n c : Nat) (l : List UE) (w : World) (hx : UpsI w a n l) (hs : SzU n l) :
    Calls Tryz.prog 33 #[.slice a n c] w fun e w' => (∃ g l', e = .returned (.slice (some ⟨g, 0, none⟩) n n) ∧ UpRow w' w.heap.size (.slice (some ⟨g, 0, none⟩) n n) l' ∧ l'.map UE.u = l.map UE.u ∧ ∀ e ∈ l', e.n ≤ 1048576) ∧ Below w.heap.size w w' := by
  obtain ⟨i0, hi, hz0, hz1, hz2⟩ := info_parts info_up
  have HX : Hid (∀ W, Below w.heap.size w W → UpsI W a n l) := fun W hb => hx.below hb
  have HS : Hid (SzU n l) := hs
  have HL : Hid (l.length = n) := hx.1
  have hn : n ≤ 1048576 := hs.1
  clear hx hs
  go_enter Tryz.func33, Tryz.ntmps33
  go_wp2_with (at_make; refine wpList_make_full _ rfl _ _ 30 rfl w.heap.size 69 i0 (.agg #[.string ⟨#[]⟩, .int .i64 0, .slice none 0 0, .bool false]) 4 Tryz.underlying30 hi hz0 hz1 _ _ _ _ n rfl rfl rfl rfl (by rw [hz2]; omega) (by unfold maxLen; omega) (Nat.le_refl _) ?_; intro w1 hown hgrow)
  have hrow : UpRow w1 w.heap.size (.slice (some ⟨w.heap.size, 0, none⟩) n n) (List.replicate n unil) := by
    refine ⟨?_, fun e he => ?_, ?_⟩
    · rw [List.length_replicate, ← made_up]
      exact hown
    · obtain rfl : e = unil := List.eq_of_mem_replicate he
      exact owns_nil _ _
    · rw [List.pairwise_replicate]
      right
      intro q hq
      simp at hq
  have HR : Hid (UpRow w1 w.heap.size (.slice (some ⟨w.heap.size, 0, none⟩) n n) (List.replicate n unil)) := hrow
  have HB : Hid (Below w.heap.size w w1) := (Below.refl _ _).grown hgrow (Nat.le_refl _) (by simp)
  clear hown hgrow hrow
  go_loopw [4] (fun i wr => ∃ (k : Nat) (M : List UE), k ≤ n ∧ i = .int .i64 k ∧ M.length = k ∧ Hid (UpRow wr w.heap.size (.slice (some ⟨w.heap.size, 0, none⟩) n n) (M ++ List.replicate (n - k) unil)) ∧ Hid (M.map UE.u = (l.map UE.u).take k) ∧ Hid (∀ e ∈ M, e.n ≤ 1048576) ∧ Hid (Below w.heap.size w wr)) (fun i _ => n - (intOf i).toNat)
  case atStart => exact ⟨0, [], Nat.zero_le _, rfl, rfl, HR, rfl, (fun e he => absurd he (List.not_mem_nil)), HB⟩
  case round =>
    clear HR HB
    obtain ⟨k, M, hk, rfl, hM, HO, HM, HZ, HB⟩ := hrel
    by_cases hlt : k < n
    · have hkl : k < l.length := by rw [HL.out]; exact hlt
      obtain ⟨b, off, rfl, hb, g0, g1, g2, g3⟩ := (HX.out _ HB.out).at hkl
      have hsg := (HX.out _ HB.out).2.1 (l[k]) (List.getElem_mem hkl)
      have HSg : Hid (Seg wr (l[k]).a (l[k]).n (l[k]).u.zs) := hsg.2.2
      have hen : (l[k]).n ≤ 1048576 := (HS.out.2 _ (List.getElem_mem hkl)).2
      have HM2 : Hid (M.map UE.u ++ [(l[k]).u] = (l.map UE.u).take (k + 1)) := by show _ = _; rw [List.take_add_one, List.getElem?_map, List.getElem?_eq_getElem hkl, HM.out]; rfl
      clear HM hsg
      have hki : (k : Int) < (n : Int) := by omega
      have hk0 : (0 : Int) ≤ (k : Int) := by omega
      generalize l[k] = x at *
      go_wp2_with fail
      refine (toUp_any x _ HSg.out hen).mono ?_
      rintro e x3 ⟨⟨gA, rfl, ho3⟩, hb3⟩
      have hrep : List.replicate (n - k) unil = unil :: List.replicate (n - (k + 1)) unil := by rw [← List.replicate_succ]; congr 1; omega
      have hO := HO.out
      rw [hrep] at hO
      have hOlen : (M ++ unil :: List.replicate (n - (k + 1)) unil).length = n := by simp; omega
      have hgs : w.heap.size < wr.heap.size := (hO.lts.1 _ rfl).2
      have hl3 := hO.laid (x := ⟨x.u, some ⟨gA, 0, none⟩, x.n, x.n⟩) hOlen hb3 ho3 (Nat.le_refl _)
      rw [hM] at hl3
      have hst := (hO.stays hb3).1
      rw [hOlen] at hst
      have hcl : (ueCells (M ++ unil :: List.replicate (n - (k + 1)) unil)).length = n * 4 := by rw [ueCells_len, hOlen]
      have f0 : x3.frozen? ⟨w.heap.size, k * 4, none⟩ = false := hst.frozenAt _
      have f1 : x3.frozen? ⟨w.heap.size, k * 4 + 1, none⟩ = false := hst.frozenAt _
      have f2 : x3.frozen? ⟨w.heap.size, k * 4 + 2, none⟩ = false := hst.frozenAt _
      have f3 : x3.frozen? ⟨w.heap.size, k * 4 + 3, none⟩ = false := hst.frozenAt _
      obtain ⟨u0, hu0⟩ : ∃ u, x3.cell? ⟨w.heap.size, k * 4, none⟩ = some u := by rw [hst.cellAt _ (by omega)]; exact ⟨_, List.getElem?_eq_getElem (by omega)⟩
      obtain ⟨u1, hu1⟩ : ∃ u, x3.cell? ⟨w.heap.size, k * 4 + 1, none⟩ = some u := by rw [hst.cellAt _ (by omega)]; exact ⟨_, List.getElem?_eq_getElem (by omega)⟩
      obtain ⟨u2, hu2⟩ : ∃ u, x3.cell? ⟨w.heap.size, k * 4 + 2, none⟩ = some u := by rw [hst.cellAt _ (by omega)]; exact ⟨_, List.getElem?_eq_getElem (by omega)⟩
      obtain ⟨u3, hu3⟩ : ∃ u, x3.cell? ⟨w.heap.size, k * 4 + 3, none⟩ = some u := by rw [hst.cellAt _ (by omega)]; exact ⟨_, List.getElem?_eq_getElem (by omega)⟩
      have HO3 : Hid (UpRow ((((x3.setCell ⟨w.heap.size, k * 4, none⟩ (.string x.u.id)).setCell ⟨w.heap.size, k * 4 + 1, none⟩ (.int .i64 x.u.want)).setCell ⟨w.heap.size, k * 4 + 2, none⟩ (.slice (some ⟨gA, 0, none⟩) x.n x.n)).setCell ⟨w.heap.size, k * 4 + 3, none⟩ (.bool x.u.done)) w.heap.size (.slice (some ⟨w.heap.size, 0, none⟩) n n) (M ++ [⟨x.u, some ⟨gA, 0, none⟩, x.n, x.n⟩] ++ List.replicate (n - (k + 1)) unil)) := by rw [List.append_assoc]; exact hl3.1
      have HB3 : Hid (Below w.heap.size w ((((x3.setCell ⟨w.heap.size, k * 4, none⟩ (.string x.u.id)).setCell ⟨w.heap.size, k * 4 + 1, none⟩ (.int .i64 x.u.want)).setCell ⟨w.heap.size, k * 4 + 2, none⟩ (.slice (some ⟨gA, 0, none⟩) x.n x.n)).setCell ⟨w.heap.size, k * 4 + 3, none⟩ (.bool x.u.done))) := ((((HB.out.trans (hb3.mono HB.out.size)).setCell (Nat.le_refl _) _).setCell (Nat.le_refl _) _).setCell (Nat.le_refl _) _).setCell (Nat.le_refl _) _
      have HM3 : Hid ((M ++ [(⟨x.u, some ⟨gA, 0, none⟩, x.n, x.n⟩ : UE)]).map UE.u = (l.map UE.u).take (k + 1)) := by show _ = _; rw [List.map_append]; exact HM2.out
      have HZ3 : Hid (∀ e ∈ M ++ [(⟨x.u, some ⟨gA, 0, none⟩, x.n, x.n⟩ : UE)], e.n ≤ 1048576) := fun e he => by
        rcases List.mem_append.1 he with he | he
        · exact HZ.out e he
        · obtain rfl : e = ⟨x.u, some ⟨gA, 0, none⟩, x.n, x.n⟩ := by simpa using he
          exact hen
      clear hl3 hst hcl hO hrep hOlen ho3 hb3 HM2 g0 g1 g2 g3 HO HB
      go_wp2
      go_roundw
      case rel => exact ⟨k + 1, M ++ [⟨x.u, some ⟨gA, 0, none⟩, x.n, x.n⟩], by omega, by go_num, by simp [hM], HO3, HM3, HZ3, HB3⟩
      case measure => simp [intOf]; omega
    · obtain rfl : k = n := by omega
      have HO2 : Hid (UpRow wr w.heap.size (.slice (some ⟨w.heap.size, 0, none⟩) k k) M) := by
        have h := HO.out
        rw [Nat.sub_self, List.replicate_zero, List.append_nil] at h
        exact h
      have HE : Hid (M.map UE.u = l.map UE.u) := by show _ = _; rw [HM.out, List.take_of_length_le (by rw [List.length_map, HL.out]; exact Nat.le_refl _)]
      clear HO HM
      go_wp2
      go_ret
      exact ⟨⟨w.heap.size, M, rfl, HO2.out, HE.out, HZ.out⟩, HB.out⟩

end Go.Proofs.YtammmecddnafaaaGreatDoor

namespace Go.Proofs.YtammmecddnafaaaGreatDoor
open Go.RowKit
set_option linter.unusedVariables false

set_option maxHeartbeats 400000 in
theorem szStrS_any (a : Option Addr) (len ca : Nat) (xs : List ByteArray) (n : Int) (w : World) (hx : Strs w a len xs) (hn : 0 ≤ n) (hn2 : n ≤ 1048576) (hl : len ≤ maxLen) :
    Calls Tryz.prog 49 #[.slice a len ca, .int .i64 n] w fun e w' => (∃ v : Int, e = .returned (.int .i64 v) ∧ v ≤ n ∧ (0 ≤ v → v + (len + strBytes xs) ≤ n)) ∧ Below w.heap.size w w' := by
  have HX : Hid (Strs w a len xs) := hx
  clear hx
  have hm : maxLen < 9223372036854775808 := by decide
  by_cases h0 : n - len < 0
  · go_enter Tryz.func49, Tryz.ntmps49
    go_wp2
    go_ret
    exact ⟨⟨_, rfl, by omega, by omega⟩, Below.refl _ _⟩
  · go_enter Tryz.func49, Tryz.ntmps49
    go_wp2
    go_loopw [1, 5] (fun l i wr => ∃ (k : Nat) (u : Int), k ≤ len ∧ i = .int .i64 k ∧ l = .int .i64 u ∧ 0 ≤ u ∧ u ≤ 1048576 ∧ Hid (u = n - len - strBytes (xs.take k)) ∧ Hid (Below w.heap.size w wr)) (fun _ i _ => len - (intOf i).toNat)
    case atStart => exact ⟨0, n - len, Nat.zero_le _, rfl, rfl, by omega, by omega, by show _ = _; simp [strBytes], Below.refl _ _⟩
    case round =>
      obtain ⟨k, u, hk, rfl, rfl, hu, hu2, HU, HW⟩ := hrel
      by_cases hlt : k < len
      · obtain ⟨ba, oa, x, rfl, hba, hfa, ha0⟩ := HX.out.at hlt
        have ga0 : wr.cell? ⟨ba, oa + k, none⟩ = some (.string x) := (HW.out.cell (p := ⟨ba, _, none⟩) hba).trans ha0
        have hsz := HX.out.2.1 x (List.mem_of_getElem? hfa)
        have HF : Hid (strBytes (xs.take (k + 1)) = strBytes (xs.take k) + x.size) := strBytes_step xs k x hfa
        clear hfa ha0
        have hki : (k : Int) < (len : Int) := by omega
        have hk0 : (0 : Int) ≤ (k : Int) := by omega
        by_cases hneg : u - x.size < 0
        · go_wp2
          go_ret
          exact ⟨⟨_, rfl, by omega, by omega⟩, HW.out⟩
        · go_wp2
          go_roundw
          case rel =>
            refine ⟨k + 1, u - x.size, by omega, by go_num, rfl, by omega, by omega, ?_, HW⟩
            show _ = _
            have h2 := HF.out
            have h3 := HU.out
            omega
          case measure => simp [intOf]; omega
      · go_wp2
        go_ret
        have hkl : k = len := by omega
        have h3 := HU.out
        have h4 := HX.out.1
        rw [List.take_of_length_le (by omega)] at h3
        exact ⟨⟨_, rfl, by omega, by omega⟩, HW.out⟩

end Go.Proofs.YtammmecddnafaaaGreatDoor

namespace Go.Proofs.YtammmecddnafaaaGreatDoor
open Go.RowKit
set_option linter.unusedVariables false

set_option maxHeartbeats 400000 in
theorem toStrS_own (a : Option Addr) (len ca : Nat) (xs : List ByteArray) (w : World) (hx : Strs w a len xs) (hl : len ≤ 1048576) :
    Calls Tryz.prog 60 #[.slice a len ca] w fun e w' => e = .returned (.slice (some ⟨w.heap.size, 0, none⟩) len len) ∧ OwnSt w' w.heap.size (.slice (some ⟨w.heap.size, 0, none⟩) len len) len xs ∧ Below w.heap.size w w' := by
  obtain ⟨i0, hi, hz0, hz1, hz2⟩ := info_parts info_string
  have HS : Hid (Strs w a len xs) := hx
  clear hx
  go_enter Tryz.func60, Tryz.ntmps60
  go_wp2_with (at_make; refine wpList_make_full _ rfl _ _ 22 rfl w.heap.size 9 i0 (.string ⟨#[]⟩) 1 Tryz.underlying22 hi hz0 hz1 _ _ _ _ len rfl rfl rfl rfl (by rw [hz2]; omega) (by unfold maxLen; omega) (Nat.le_refl _) ?_; intro w1 hown hgrow)
  have hrow : w1.ownsRow w.heap.size 9 1 (.slice (some ⟨w.heap.size, 0, none⟩) len len) len (scells (srowTo xs len 0)) := by
    have : (madeCells (Value.string ⟨#[]⟩).cells (len * 1)).toList = scells (srowTo xs len 0) := by
      rw [show (Value.string ⟨#[]⟩).cells = #[Value.string ⟨#[]⟩] from rfl, toList_madeCells_one]
      simp [srowTo, scells]
    rwa [this] at hown
  have hbel : Below w.heap.size w w1 := (Below.refl _ _).grown hgrow (Nat.le_refl _) (by simp)
  have HR := (show Hid _ from hrow)
  have HB := (show Hid _ from hbel)
  clear hown hgrow hrow hbel
  go_loopw [4] (fun i wr => ∃ k : Nat, k ≤ len ∧ i = .int .i64 k ∧ Hid (wr.ownsRow w.heap.size 9 1 (.slice (some ⟨w.heap.size, 0, none⟩) len len) len (scells (srowTo xs len k))) ∧ Hid (Below w.heap.size w wr)) (fun i _ => len - (intOf i).toNat)
  case atStart => exact ⟨0, Nat.zero_le _, rfl, HR, HB⟩
  case round =>
    clear HR HB
    obtain ⟨k, hk, rfl, HO, HB⟩ := hrel
    by_cases hlt : k < len
    · obtain ⟨ba, oa, x, rfl, hba, hfa, ha0⟩ := HS.out.at hlt
      have ga0 : wr.cell? ⟨ba, oa + k, none⟩ = some (.string x) := (HB.out.cell (p := ⟨ba, _, none⟩) hba).trans ha0
      have HF : Hid (xs[k]? = some x) := hfa
      clear hfa ha0
      have hki : (k : Int) < (len : Int) := by omega
      have hk0 : (0 : Int) ≤ (k : Int) := by omega
      have hln : (scells (srowTo xs len k)).length = len := by rw [scells_len, srowTo_len xs len k HS.out.1 hk]
      have f0 : wr.frozen? ⟨w.heap.size, k, none⟩ = false := HO.out.frozenAt _
      obtain ⟨u0, hu0⟩ : ∃ u, wr.cell? ⟨w.heap.size, k, none⟩ = some u := by
        rw [HO.out.cellAt _ (by omega)]
        exact ⟨_, List.getElem?_eq_getElem (by omega)⟩
      clear hln
      go_wp2
      go_roundw
      case rel =>
        refine ⟨k + 1, by omega, by go_num, ?_, ?_⟩
        · have h := (HO.out.stored k (.string x)).1
          rw [scells_set, srowTo_step xs len k x HF.out hlt] at h
          exact h
        · exact HB.out.setCell (Nat.le_refl _) _
      case measure => simp [intOf]; omega
    · go_wp2
      go_ret
      have hkl : k = len := by omega
      subst hkl
      have hl1 := HS.out.1
      have h := HO.out
      rw [show srowTo xs k k = xs by simp [srowTo, List.take_of_length_le (Nat.le_of_eq hl1)]] at h
      exact ⟨rfl, ⟨h, HS.out.2.1⟩, HB.out⟩

end Go.Proofs.YtammmecddnafaaaGreatDoor
