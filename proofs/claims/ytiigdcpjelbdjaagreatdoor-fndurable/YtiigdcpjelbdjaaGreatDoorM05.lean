/- Rows of texts cut in two. No program in it but its table of types. A store in memory: its two rows of texts and its uploads, of a call's own. No program in it but its table of types. A sector of a store in memory is put; its variable's cells are written. No statement of the program but its table of types. Rows whose blocks are as they were. No program in it. What is written lies between two bounds. No program in it. A store, and an upload, in a variable of the law's: where its rows lie. No statement of the program but its table of types. Plain arithmetic of the sum: one step, eight steps, a list of bytes; no program in it. Requests and answers that are right: no statement of the program; no condition. -/
import Derived.Test.YtiigdcpjelbdjaaGreatDoorM04
import Derived.Test.YtiigdcpjelbdjaaGreatDoorM03
import Derived.Test.YtiigdcpjelbdjaaGreatDoorM01
namespace Go.Proofs.YtiigdcpjelbdjaaGreatDoor
open Go.RowKit
set_option linter.unusedVariables false

/-- A slice value whose parts may be taken. -/
def SlOk (a : Option Addr) (n ca : Nat) : Prop := n ≤ ca ∧ ca ≤ maxLen ∧ ((a = none ∧ ca = 0) ∨ ∃ b off, a = some ⟨b, off, none⟩)

theorem OwnSt.sl {w : World} {base n ca : Nat} {a : Option Addr} {l : List ByteArray} (h : OwnSt w base (.slice a n ca) n l) : SlOk a n ca := by
  rcases h.1.2 with ⟨h0, h1⟩ | ⟨g, cap, cur, he, hb, hg, hn, hm, hc, ht⟩
  · injection h0 with e1 e2 e3
    subst e1 e2 e3
    exact ⟨Nat.le_refl _, Nat.zero_le _, .inl ⟨rfl, rfl⟩⟩
  · injection he with e1 e2 e3
    subst e1 e3
    exact ⟨hn, hm, .inr ⟨g, 0, rfl⟩⟩

theorem Strs.take {w : World} {a : Option Addr} {n : Nat} {l : List ByteArray} (h : Strs w a n l) {k : Nat} (hk : k ≤ n) : Strs w a k (l.take k) := by
  obtain ⟨h1, h2, h3⟩ := h
  refine ⟨by rw [List.length_take]; omega, fun s hs => h2 s (List.mem_of_mem_take hs), ?_⟩
  rcases h3 with h0 | ⟨b, off, ha, hlt, hc⟩
  · exact .inl (by omega)
  · by_cases hk0 : k = 0
    · exact .inl hk0
    · refine .inr ⟨b, off, ha, hlt, fun i hi => ?_⟩
      have hil : i < l.length := by rw [List.length_take] at hi; omega
      rw [List.getElem_take]
      exact hc i hil

theorem Strs.drop {w : World} {b off n : Nat} {l : List ByteArray} (h : Strs w (some ⟨b, off, none⟩) n l) {k : Nat} (hk : k ≤ n) : Strs w (some ⟨b, off + k, none⟩) (n - k) (l.drop k) := by
  obtain ⟨h1, h2, h3⟩ := h
  refine ⟨by rw [List.length_drop]; omega, fun s hs => h2 s (List.mem_of_mem_drop hs), ?_⟩
  rcases h3 with h0 | ⟨b', off', ha, hlt, hc⟩
  · exact .inl (by omega)
  · injection ha with ha
    injection ha with e1 e2
    subst e1 e2
    refine .inr ⟨b, off + k, rfl, hlt, fun i hi => ?_⟩
    have hil : k + i < l.length := by rw [List.length_drop] at hi; omega
    have := hc (k + i) hil
    rw [List.getElem_drop]
    rw [show off + k + i = off + (k + i) by omega]
    exact this

theorem Strs.gone {w : World} {a : Option Addr} {n : Nat} {l : List ByteArray} (h : Strs w a n l) (a' : Option Addr) {k : Nat} (hk : n ≤ k) : Strs w a' 0 (l.drop k) := by
  have : l.drop k = [] := List.drop_of_length_le (by have := h.1; omega)
  rw [this]
  exact ⟨rfl, by simp, .inl rfl⟩

end Go.Proofs.YtiigdcpjelbdjaaGreatDoor

namespace Go.Proofs.YtiigdcpjelbdjaaGreatDoor
open Go.RowKit
set_option linter.unusedVariables false

/-- Rows of different types do not lie in one block. -/
theorem rows_apart {W : World} {base base' n n' size size' : Nat} {e e' : TypeId} {v v' : Value} {xs xs' : List Value} (h : W.ownsRow base e size v n xs) (h' : W.ownsRow base' e' size' v' n' xs') (hne : e ≠ e') : ∀ q, v.ownBlock = some q → v'.ownBlock ≠ some q := by
  intro q hq hq'
  rcases h.2 with ⟨rfl, _⟩ | ⟨g, cap, cur, rfl, _, hg, _⟩
  · cases hq
  · rcases h'.2 with ⟨rfl, _⟩ | ⟨g', cap', cur', rfl, _, hg', _⟩
    · cases hq'
    · obtain rfl : g = q := by simpa [Value.ownBlock] using hq
      obtain rfl : g' = g := by simpa [Value.ownBlock] using hq'
      rw [hg] at hg'
      injection hg' with hg'
      injection hg' with _ h2 _
      exact hne h2

theorem blk_own (a : Option Addr) (n c : Nat) : blkOf (.slice a n c) = a.map (·.block) := by cases a <;> rfl

/-- Uploads are as they were where a row of texts is written. -/
theorem UpRow.keptS {W W' : World} {base base' n ca : Nat} {a : Option Addr} {v : Value} {l : List UE} {X : List ByteArray} (h : UpRow W base v l) (ho : OwnSt W base' (.slice a n ca) n X) (hg : W.grownBy W' (a.map (·.block))) : UpRow W' base v l := by
  have h9 : W.ownsRow base' 9 1 (.slice a n ca) n (scells X) := ho.1
  refine h.grown hg (fun q hq hq2 => ?_) (fun e he q hq hq2 => ?_)
  · exact rows_apart h9 h.1 (by decide) q (by rw [ownBlock_sU]; exact hq) hq2
  · exact rows_apart h9 (h.2.1 e he).1 (by decide) q (by rw [ownBlock_sU]; exact hq) (by rw [ownBlock_sU]; exact hq2)

/-- Texts are as they were where blocks of another type are written. -/
theorem OwnSt.keptR {W W' : World} {base base' n m ca size : Nat} {a : Option Addr} {e : TypeId} {v : Value} {xs : List Value} {X : List ByteArray} (ho : OwnSt W base (.slice a n ca) n X) (h : W.ownsRow base' e size v m xs) (hne : 9 ≠ e) (hg : W.grownBy W' v.ownBlock) : OwnSt W' base (.slice a n ca) n X := by
  have h9 : W.ownsRow base 9 1 (.slice a n ca) n (scells X) := ho.1
  refine ho.kept hg (fun q hq hq2 => ?_)
  rw [blk_own] at hq2
  exact rows_apart h9 h hne q (by rw [ownBlock_sU]; exact hq2) hq

/-- A store's three rows, of a call's own. -/
structure StoAt (W : World) (base : Nat) (a : Option Addr) (n ca : Nat) (X : List ByteArray) (a' : Option Addr) (n' ca' : Nat) (Y : List ByteArray) (ua : Option Addr) (un uc : Nat) (l : List UE) : Prop where
  now : OwnSt W base (.slice a n ca) n X
  sure : OwnSt W base (.slice a' n' ca') n' Y
  apart : ∀ q, a.map (·.block) = some q → a'.map (·.block) ≠ some q
  ups : UpRow W base (.slice ua un uc) l
  len : un = l.length

section
variable {W W' : World} {base : Nat} {a : Option Addr} {n ca : Nat} {X : List ByteArray} {a' : Option Addr} {n' ca' : Nat} {Y : List ByteArray} {ua : Option Addr} {un uc : Nat} {l : List UE}

theorem StoAt.stays (h : StoAt W base a n ca X a' n' ca' Y ua un uc l) (hb : Below W.heap.size W W') : StoAt W' base a n ca X a' n' ca' Y ua un uc l :=
  ⟨h.now.below hb, h.sure.below hb, h.apart, h.ups.stays hb, h.len⟩

theorem StoAt.low {b : Nat} (h : StoAt W base a n ca X a' n' ca' Y ua un uc l) (hb : b ≤ base) : StoAt W b a n ca X a' n' ca' Y ua un uc l :=
  ⟨h.now.low hb, h.sure.low hb, h.apart, h.ups.low hb, h.len⟩
end

/-- What lies below a bound stays. -/
theorem OwnSt.under {W W' : World} {base n ca B : Nat} {a : Option Addr} {X : List ByteArray} (h : OwnSt W base (.slice a n ca) n X) (hb : Below B W W') (h1 : ∀ q, a.map (·.block) = some q → q < B) : OwnSt W' base (.slice a n ca) n X := by
  refine ⟨⟨h.1.1, ?_⟩, h.2⟩
  rcases h.1.2 with h0 | ⟨g, cap, cur, he, hg, hh, r⟩
  · exact .inl h0
  · injection he with e1 e2 e3
    subst e1 e3
    exact .inr ⟨g, ca, cur, rfl, hg, (hb.block g (h1 g rfl)).trans hh, r⟩

theorem StoAt.setLow {W : World} {base b i : Nat} {a : Option Addr} {n ca : Nat} {X : List ByteArray} {a' : Option Addr} {n' ca' : Nat} {Y : List ByteArray} {ua : Option Addr} {un uc : Nat} {l : List UE} (h : StoAt W base a n ca X a' n' ca' Y ua un uc l) (hb : b < base) (u : Value) : StoAt (W.setCell ⟨b, i, none⟩ u) base a n ca X a' n' ca' Y ua un uc l := by
  refine ⟨h.now.setCell (fun e => ?_) u, h.sure.setCell (fun e => ?_) u, h.apart, h.ups.grown (grownBy_setU W b i u) (fun q hq hq2 => ?_) (fun e he q hq hq2 => ?_), h.len⟩
  · have := (h.now.lt b e).1; omega
  · have := (h.sure.lt b e).1; omega
  · injection hq with hq; have := (h.ups.lts.1 q hq2).1; omega
  · injection hq with hq; have := (h.ups.lts.2 e he q hq2).1; omega

/-- An answer that is a store. -/
def AnsS (base : Nat) (X Y : List ByteArray) (ep nx : Int) (us : List U) (v : Value) (w' : World) : Prop :=
  ∃ (a : Option Addr) (n ca : Nat) (a' : Option Addr) (n' ca' : Nat) (ua : Option Addr) (un uc : Nat) (l : List UE), v = .agg #[.slice a n ca, .slice a' n' ca', .int .i64 ep, .int .i64 nx, .slice ua un uc] ∧ StoAt w' base a n ca X a' n' ca' Y ua un uc l ∧ l.map UE.u = us

/-- The rows of a store lie below a bound. -/
def StoIn (a a' ua : Option Addr) (l : List UE) (hi : Nat) : Prop := (∀ q, a.map (·.block) = some q → q < hi) ∧ (∀ q, a'.map (·.block) = some q → q < hi) ∧ (∀ q, ua.map (·.block) = some q → q < hi) ∧ ∀ e ∈ l, ∀ q, e.a.map (·.block) = some q → q < hi

end Go.Proofs.YtiigdcpjelbdjaaGreatDoor

namespace Go.Proofs.YtiigdcpjelbdjaaGreatDoor
open Go.RowKit
set_option linter.unusedVariables false

theorem texts_at {W : World} {base n C : Nat} {A : Option Addr} {X : List ByteArray} (h : OwnSt W base (.slice A n C) n X) (hn : 0 < n) : ∃ g, A = some ⟨g, 0, none⟩ := by
  rcases h.1.2 with ⟨_, h0⟩ | ⟨g, cap', cur, he, _⟩
  · omega
  · injection he with e1 _ _
    exact ⟨g, e1⟩

/-- A cell of a row of texts, and that it is not frozen. -/
theorem texts_cell {W : World} {base g n C : Nat} {X : List ByteArray} (h : OwnSt W base (.slice (some ⟨g, 0, none⟩) n C) n X) {k : Nat} (hk : k < n) : ∃ x, X[k]? = some x ∧ W.cell? ⟨g, k, none⟩ = some (.string x) ∧ W.frozen? ⟨g, k, none⟩ = false := by
  have hl := h.len
  have hkx : k < X.length := by omega
  refine ⟨X[k], List.getElem?_eq_getElem hkx, ?_, h.1.frozenAt k⟩
  have := h.1.cellAt k (by rw [Nat.mul_one]; exact hk)
  rw [this, scells, List.getElem?_map, List.getElem?_eq_getElem hkx]
  rfl

theorem scells_put (l : List ByteArray) (k : Nat) (x : ByteArray) : (scells l).set k (.string x) = scells (l.set k x) := by rw [scells, scells, List.map_set]

/-- A sector is put. -/
theorem StoAt.putNow {W : World} {base g : Nat} {n ca : Nat} {X : List ByteArray} {a' : Option Addr} {n' ca' : Nat} {Y : List ByteArray} {ua : Option Addr} {un uc : Nat} {l : List UE} (h : StoAt W base (some ⟨g, 0, none⟩) n ca X a' n' ca' Y ua un uc l) (k : Nat) (x : ByteArray) (hx : x.size ≤ maxLen) : StoAt (W.setCell ⟨g, k, none⟩ (.string x)) base (some ⟨g, 0, none⟩) n ca (X.set k x) a' n' ca' Y ua un uc l := by
  have hst := h.now.1.stored k (.string x)
  have hg : W.grownBy (W.setCell ⟨g, k, none⟩ (.string x)) (some g) := hst.2
  refine ⟨⟨?_, fun y hy => ?_⟩, h.sure.setCell (fun e => ?_) _, h.apart, h.ups.keptS h.now hg, h.len⟩
  · rw [← scells_put]
    exact hst.1
  · rcases List.mem_or_eq_of_mem_set hy with h2 | rfl
    · exact h.now.2 y h2
    · exact hx
  · rw [blk_own] at e
    exact h.apart g rfl e

/-- The uploads of a store are put down anew, in their row or in new ones. -/
theorem StoAt.upsTo {W W' : World} {base : Nat} {a : Option Addr} {n ca : Nat} {X : List ByteArray} {a' : Option Addr} {n' ca' : Nat} {Y : List ByteArray} {ua : Option Addr} {un uc : Nat} {l : List UE} {ua' : Option Addr} {un' uc' : Nat} {l' : List UE} (h : StoAt W base a n ca X a' n' ca' Y ua un uc l) (hg : W.grownBy W' (Value.slice ua un uc).ownBlock) (hu : UpRow W' base (.slice ua' un' uc') l') (hl : un' = l'.length) : StoAt W' base a n ca X a' n' ca' Y ua' un' uc' l' :=
  ⟨h.now.keptR h.ups.1 (by decide) hg, h.sure.keptR h.ups.1 (by decide) hg, h.apart, hu, hl⟩

/-- The store has other uploads. -/
theorem StoAt.withUps {W : World} {base : Nat} {a : Option Addr} {n ca : Nat} {X : List ByteArray} {a' : Option Addr} {n' ca' : Nat} {Y : List ByteArray} {ua : Option Addr} {un uc : Nat} {l : List UE} {ua' : Option Addr} {un' uc' : Nat} {l' : List UE} (h : StoAt W base a n ca X a' n' ca' Y ua un uc l) (hu : UpRow W base (.slice ua' un' uc') l') (hl : un' = l'.length) : StoAt W base a n ca X a' n' ca' Y ua' un' uc' l' :=
  ⟨h.now, h.sure, h.apart, hu, hl⟩

/-- A cell of a variable is written that is of none of the rows' types. -/
theorem StoAt.setBox {W : World} {base b i : Nat} {t : TypeId} {a : Option Addr} {n ca : Nat} {X : List ByteArray} {a' : Option Addr} {n' ca' : Nat} {Y : List ByteArray} {ua : Option Addr} {un uc : Nat} {l : List UE} {vs : List Value} (h : StoAt W base a n ca X a' n' ca' Y ua un uc l) (hb : BoxN W b t vs) (u : Value) (h0 : t ≠ 9 := by decide) (h1 : t ≠ 42 := by decide) (h2 : t ≠ 5 := by decide) : StoAt (W.setCell ⟨b, i, none⟩ u) base a n ca X a' n' ca' Y ua un uc l := by
  refine ⟨h.now.setCell (fun e => ?_) u, h.sure.setCell (fun e => ?_) u, h.apart, h.ups.setBox hb h1 h2, h.len⟩
  · exact hb.noRow h.now.1 h0 (by rw [ownBlock_sU]; rw [blk_own] at e; exact e)
  · exact hb.noRow h.sure.1 h0 (by rw [ownBlock_sU]; rw [blk_own] at e; exact e)

end Go.Proofs.YtiigdcpjelbdjaaGreatDoor

namespace Go.Proofs.YtiigdcpjelbdjaaGreatDoor
open Go.RowKit
set_option linter.unusedVariables false

theorem own_same {W W' : World} {base n size : Nat} {e : TypeId} {v : Value} {xs : List Value} (h : W.ownsRow base e size v n xs) (hq : ∀ q, v.ownBlock = some q → W'.heap[q]? = W.heap[q]?) : W'.ownsRow base e size v n xs := by
  refine ⟨h.1, ?_⟩
  rcases h.2 with h0 | ⟨g, cap, cur, rfl, hb, hg, r⟩
  · exact .inl h0
  · exact .inr ⟨g, cap, cur, rfl, hb, (hq g rfl).trans hg, r⟩

theorem Owns.same {W W' : World} {base n c : Nat} {a : Option Addr} {zs : List Int} (h : Owns W base a n c zs) (hq : ∀ q, a.map (·.block) = some q → W'.heap[q]? = W.heap[q]?) : Owns W' base a n c zs := ⟨own_same h.1 (fun q e => hq q (by rw [← ownBlock_sU a n c]; exact e)), h.2⟩

theorem UpRow.same {W W' : World} {base : Nat} {v : Value} {l : List UE} (h : UpRow W base v l) (h1 : ∀ q, v.ownBlock = some q → W'.heap[q]? = W.heap[q]?) (h2 : ∀ e ∈ l, ∀ q, e.a.map (·.block) = some q → W'.heap[q]? = W.heap[q]?) : UpRow W' base v l :=
  ⟨own_same h.1 h1, fun e he => (h.2.1 e he).same (h2 e he), h.2.2⟩

end Go.Proofs.YtiigdcpjelbdjaaGreatDoor

namespace Go.Proofs.YtiigdcpjelbdjaaGreatDoor
open Go.RowKit
set_option linter.unusedVariables false

/-- Of what was there, only blocks from lo on and below hi may have turned. -/
structure Within (w w' : World) (lo hi : Nat) : Prop where
  os : w'.os = w.os
  tape : w'.tape = w.tape
  output : w'.output = w.output
  size : w.heap.size ≤ w'.heap.size
  block : ∀ q, q < w.heap.size → (q < lo ∨ hi ≤ q) → w'.heap[q]? = w.heap[q]?

theorem Within.refl (w : World) (lo hi : Nat) : Within w w lo hi := ⟨rfl, rfl, rfl, Nat.le_refl _, fun _ _ _ => rfl⟩

theorem Within.trans {w w1 w2 : World} {lo hi : Nat} (h : Within w w1 lo hi) (k : Within w1 w2 lo hi) : Within w w2 lo hi :=
  ⟨k.os.trans h.os, k.tape.trans h.tape, k.output.trans h.output, Nat.le_trans h.size k.size, fun q hq ho => (k.block q (Nat.lt_of_lt_of_le hq h.size) ho).trans (h.block q hq ho)⟩

theorem within_below {w w' : World} {lo hi : Nat} (h : Below w.heap.size w w') : Within w w' lo hi := ⟨h.os, h.tape, h.output, h.size, fun q hq _ => h.block q hq⟩

theorem within_grown {w w' : World} {lo hi : Nat} {r : Option Nat} (h : w.grownBy w' r) (hr : ∀ q, r = some q → lo ≤ q ∧ q < hi) : Within w w' lo hi :=
  ⟨h.os, h.tape, h.output, h.size, fun q hq ho => h.block q hq (fun e => by have := hr q e.symm; omega)⟩

theorem Within.below {w w' : World} {lo hi : Nat} (h : Within w w' lo hi) (hl : lo ≤ w.heap.size) : Below lo w w' :=
  ⟨h.os, h.tape, h.output, h.size, fun q hq => h.block q (Nat.lt_of_lt_of_le hq hl) (.inl hq)⟩

theorem Within.more {w w' : World} {lo hi lo' hi' : Nat} (h : Within w w' lo hi) (h1 : lo' ≤ lo) (h2 : hi ≤ hi') : Within w w' lo' hi' :=
  ⟨h.os, h.tape, h.output, h.size, fun q hq ho => h.block q hq (by omega)⟩

end Go.Proofs.YtiigdcpjelbdjaaGreatDoor

namespace Go.Proofs.YtiigdcpjelbdjaaGreatDoor
open Go.RowKit
set_option linter.unusedVariables false

theorem OwnSt.same {W W' : World} {base n c : Nat} {a : Option Addr} {l : List ByteArray} (h : OwnSt W base (.slice a n c) n l) (hq : ∀ q, a.map (·.block) = some q → W'.heap[q]? = W.heap[q]?) : OwnSt W' base (.slice a n c) n l := ⟨own_same h.1 (fun q e => hq q (by rw [← ownBlock_sU a n c]; exact e)), h.2⟩

theorem StoAt.same {W W' : World} {base : Nat} {a : Option Addr} {n ca : Nat} {X : List ByteArray} {a' : Option Addr} {n' ca' : Nat} {Y : List ByteArray} {ua : Option Addr} {un uc : Nat} {l : List UE} (h : StoAt W base a n ca X a' n' ca' Y ua un uc l) {hi : Nat} (hin : StoIn a a' ua l hi) (hs : ∀ q, base ≤ q → q < hi → q < W.heap.size → W'.heap[q]? = W.heap[q]?) : StoAt W' base a n ca X a' n' ca' Y ua un uc l := by
  refine ⟨h.now.same (fun q e => ?_), h.sure.same (fun q e => ?_), h.apart, h.ups.same (fun q e => ?_) (fun x hx q e => ?_), h.len⟩
  · have := h.now.lt q (by rw [blk_own]; exact e); exact hs q this.1 (hin.1 q e) this.2
  · have := h.sure.lt q (by rw [blk_own]; exact e); exact hs q this.1 (hin.2.1 q e) this.2
  · have := h.ups.lts.1 q e; exact hs q this.1 (hin.2.2.1 q (by rw [← ownBlock_sU ua un uc]; exact e)) this.2
  · have := h.ups.lts.2 x hx q e; exact hs q this.1 (hin.2.2.2 x hx q e) this.2

/-- A variable that holds a store. -/
structure SAt (W : World) (lo b : Nat) (a : Option Addr) (n ca : Nat) (X : List ByteArray) (a' : Option Addr) (n' ca' : Nat) (Y : List ByteArray) (ep nx : Int) (ua : Option Addr) (un uc : Nat) (l : List UE) : Prop where
  box : BoxN W b 29 [.slice a n ca, .slice a' n' ca', .int .i64 ep, .int .i64 nx, .slice ua un uc]
  sto : StoAt W lo a n ca X a' n' ca' Y ua un uc l
  inn : StoIn a a' ua l b
  lob : lo ≤ b

section
variable {W W' : World} {lo b : Nat} {a : Option Addr} {n ca : Nat} {X : List ByteArray} {a' : Option Addr} {n' ca' : Nat} {Y : List ByteArray} {ep nx : Int} {ua : Option Addr} {un uc : Nat} {l : List UE}

theorem StoAt.inn (h : StoAt W lo a n ca X a' n' ca' Y ua un uc l) : StoIn a a' ua l W.heap.size :=
  ⟨fun q e => (h.now.lt q (by rw [blk_own]; exact e)).2, fun q e => (h.sure.lt q (by rw [blk_own]; exact e)).2, fun q e => (h.ups.lts.1 q (by rw [ownBlock_sU]; exact e)).2, fun x hx q e => (h.ups.lts.2 x hx q e).2⟩

theorem SAt.new (h : StoAt W lo a n ca X a' n' ca' Y ua un uc l) (hl : lo ≤ W.heap.size) : SAt (W.alloc (.cells #[.slice a n ca, .slice a' n' ca', .int .i64 ep, .int .i64 nx, .slice ua un uc] 29)) lo W.heap.size a n ca X a' n' ca' Y ep nx ua un uc l :=
  ⟨BoxN.new _ _ _, h.stays ((Below.refl _ _).alloc (Nat.le_refl _) _), h.inn, hl⟩

theorem SAt.stays (h : SAt W lo b a n ca X a' n' ca' Y ep nx ua un uc l) (hb : Below W.heap.size W W') : SAt W' lo b a n ca X a' n' ca' Y ep nx ua un uc l := ⟨h.box.stays hb, h.sto.stays hb, h.inn, h.lob⟩

theorem SAt.kept {lo2 hi2 : Nat} (h : SAt W lo b a n ca X a' n' ca' Y ep nx ua un uc l) (hw : Within W W' lo2 hi2) (ho : b < lo2 ∨ hi2 ≤ lo) : SAt W' lo b a n ca X a' n' ca' Y ep nx ua un uc l :=
  ⟨(hw.block b h.box.lt (by have := h.lob; omega)).trans h.box, h.sto.same h.inn (fun q h1 h2 h3 => hw.block q h3 (by omega)), h.inn, h.lob⟩

end

/-- An answered store, the lengths of its rows said. -/
theorem AnsS.get {base : Nat} {X Y : List ByteArray} {ep nx : Int} {us : List U} {v : Value} {w' : World} (h : AnsS base X Y ep nx us v w') : ∃ (a : Option Addr) (ca : Nat) (a' : Option Addr) (ca' : Nat) (ua : Option Addr) (uc : Nat) (l : List UE), v = .agg #[.slice a X.length ca, .slice a' Y.length ca', .int .i64 ep, .int .i64 nx, .slice ua us.length uc] ∧ StoAt w' base a X.length ca X a' Y.length ca' Y ua us.length uc l ∧ l.map UE.u = us := by
  obtain ⟨a, n, ca, a', n', ca', ua, un, uc, l, rfl, hs, hm⟩ := h
  have h1 : n = X.length := by have := hs.now.1.1; simpa [scells] using this.symm
  have h2 : n' = Y.length := by have := hs.sure.1.1; simpa [scells] using this.symm
  have h3 : un = us.length := by rw [hs.len, ← hm, List.length_map]
  subst h1 h2 h3
  exact ⟨a, ca, a', ca', ua, uc, l, rfl, hs, hm⟩

end Go.Proofs.YtiigdcpjelbdjaaGreatDoor

namespace Go.Proofs.YtiigdcpjelbdjaaGreatDoor
open Go.RowKit

def crc1 (x : Nat) : Nat := if x % 2 = 1 then (x / 2) ^^^ 2197175160 else x / 2
def crcN : Nat → Nat → Nat
  | 0, x => x
  | n + 1, x => crc1 (crcN n x)
def crcL (l : List Int) : Nat := l.foldl (fun x b => crcN 8 (x ^^^ b.toNat)) 4294967295

theorem crc1_lt (x : Nat) (h : x < 4294967296) : crc1 x < 4294967296 := by
  unfold crc1
  split
  · have : x / 2 ^^^ 2197175160 < 2 ^ 32 := Nat.xor_lt_two_pow (by omega) (by omega)
    omega
  · omega
theorem crcN_lt (n x : Nat) (h : x < 4294967296) : crcN n x < 4294967296 := by
  induction n with
  | zero => exact h
  | succ n ih => exact crc1_lt _ ih
theorem xor_lt32 (a b : Nat) (ha : a < 4294967296) (hb : b < 4294967296) : a ^^^ b < 4294967296 := by
  have : a ^^^ b < 2 ^ 32 := Nat.xor_lt_two_pow (by omega) (by omega)
  omega
theorem crcL_snoc (l : List Int) (b : Int) : crcL (l ++ [b]) = crcN 8 (crcL l ^^^ b.toNat) := by simp [crcL, List.foldl_append]
theorem crcF_lt (l : List Int) : ∀ x, x < 4294967296 → (∀ n ∈ l, 0 ≤ n ∧ n ≤ 255) → l.foldl (fun x b => crcN 8 (x ^^^ b.toNat)) x < 4294967296 := by
  induction l with
  | nil => intro x hx _; simpa using hx
  | cons b l ih =>
    intro x hx h
    have hb := h b (by simp)
    rw [List.foldl_cons]
    exact ih _ (crcN_lt _ _ (xor_lt32 _ _ hx (by omega))) (fun n hn => h n (by simp [hn]))
theorem crcL_lt (l : List Int) (h : ∀ n ∈ l, 0 ≤ n ∧ n ≤ 255) : crcL l < 4294967296 := crcF_lt l _ (by omega) h
theorem take_snoc (zs : List Int) (j : Nat) (h : j < zs.length) : zs.take (j + 1) = zs.take j ++ [zs.getD j 0] := by
  rw [List.take_add_one, List.getD_eq_getElem?_getD, List.getElem?_eq_getElem h]
  rfl

theorem u32_xor_int (a : Nat) (b : Int) (ha : a < 4294967296) (hb : 0 ≤ b) (hb2 : b < 4294967296) : bits .xor .u32 (a : Int) b = ((a ^^^ b.toNat : Nat) : Int) := by
  obtain ⟨B, rfl⟩ := Int.eq_ofNat_of_zero_le hb
  rw [Int.toNat_natCast]
  exact u32_xor_nat a B ha (by omega)
theorem i64_xor_int (a : Nat) (b : Int) (ha : a < 4294967296) (hb : 0 ≤ b) (hb2 : b < 4294967296) : bits .xor .i64 (a : Int) b = ((a ^^^ b.toNat : Nat) : Int) := by
  obtain ⟨B, rfl⟩ := Int.eq_ofNat_of_zero_le hb
  rw [Int.toNat_natCast]
  exact i64_xor_nat a B (by omega) (by omega)
theorem u32_and1 (a : Nat) (ha : a < 4294967296) : bits .and .u32 (a : Int) 1 = (a : Int) % 2 := by
  have := u32_and_nat a 1 ha (by omega)
  rw [show ((1 : Nat) : Int) = 1 from rfl] at this
  rw [this, Nat.and_one_is_mod]
  omega
theorem i64_and1 (a : Nat) (ha : a < 4294967296) : bits .and .i64 (a : Int) 1 = (a : Int) % 2 := by
  have := i64_and_nat a 1 (by omega) (by omega)
  rw [show ((1 : Nat) : Int) = 1 from rfl] at this
  rw [this, Nat.and_one_is_mod]
  omega
theorem half_cast (a : Nat) : (a : Int) / 2 = ((a / 2 : Nat) : Int) := by omega
theorem u32_turn (a : Nat) (ha : a < 4294967296) : bits .xor .u32 ((a : Int) / 2) 2197175160 = ((a / 2 ^^^ 2197175160 : Nat) : Int) := by
  rw [half_cast]
  exact u32_xor_int (a / 2) 2197175160 (by omega) (by omega) (by omega)
theorem i64_turn (a : Nat) (ha : a < 4294967296) : bits .xor .i64 ((a : Int) / 2) 2197175160 = ((a / 2 ^^^ 2197175160 : Nat) : Int) := by
  rw [half_cast]
  exact i64_xor_int (a / 2) 2197175160 (by omega) (by omega) (by omega)

theorem u32_not (a : Nat) (ha : a < 4294967296) : bits .xor .u32 IntKind.u32.max (a : Int) = ((a ^^^ 4294967295 : Nat) : Int) := by
  have e : IntKind.u32.max = ((4294967295 : Nat) : Int) := by decide
  rw [e, u32_xor_nat _ _ (by omega) ha, Nat.xor_comm]

end Go.Proofs.YtiigdcpjelbdjaaGreatDoor

namespace Go.Proofs.YtiigdcpjelbdjaaGreatDoor
open Go.RowKit
set_option linter.unusedVariables false

/-- A byte that may stand in an upload's name. -/
def idC (b : UInt8) : Bool := (decide (97 ≤ b.toNat) && decide (b.toNat ≤ 122)) || (decide (48 ≤ b.toNat) && decide (b.toNat ≤ 57))

/-- Whether a text is an upload's name. -/
def idB (s : List UInt8) : Bool := s.all idC && decide (1 ≤ s.length ∧ s.length ≤ 8)

/-- The greatest number of an op; -1: it has none. -/
def mostR (op : Int) : Int := if op = 1 ∨ op = 3 then 1000000000 else if op = 4 then 4294967295 else -1

/-- Whether a request is right. -/
def reqB (op : Int) (s : List UInt8) (n : Int) : Bool := decide (1 ≤ op ∧ op ≤ 6) && idB s && (if mostR op < 0 then n == 0 else decide (0 ≤ n ∧ n ≤ mostR op))

/-- Whether an answer is right. -/
def respB (st off : Int) : Bool := decide (100 ≤ st ∧ st ≤ 599) && decide (-1 ≤ off ∧ off ≤ 1000000000)

theorem idB_long {s : List UInt8} (h : ¬ (1 ≤ s.length ∧ s.length ≤ 8)) : idB s = false := by rw [idB, decide_eq_false h, Bool.and_false]

theorem idB_bad {s : List UInt8} {k : Nat} (hk : k < s.length) (h : idC s[k] = false) : idB s = false := by
  rw [idB, Bool.and_eq_false_iff]
  refine .inl ?_
  rw [List.all_eq_false]
  exact ⟨s[k], List.getElem_mem hk, by simp [h]⟩

theorem idB_good {s : List UInt8} (h : ∀ k (hk : k < s.length), idC s[k] = true) : idB s = decide (1 ≤ s.length ∧ s.length ≤ 8) := by
  have : s.all idC = true := by
    rw [List.all_eq_true]
    intro x hx
    obtain ⟨k, hk, rfl⟩ := List.mem_iff_getElem.1 hx
    exact h k hk
  rw [idB, this, Bool.true_and]

end Go.Proofs.YtiigdcpjelbdjaaGreatDoor
