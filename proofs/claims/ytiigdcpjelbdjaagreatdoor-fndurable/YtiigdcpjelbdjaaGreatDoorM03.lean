/- Rows of uploads that a call has made: their cells, their bytes. No statement of the program but its table of types. An upload more in a row. No statement of the program but its table of types. An append onto a row of the call's own of whatever may be appended, a text's bytes too: as an operation. No program in it. Variables of three cells. No program in it. A row of uploads in a block with room behind them: copies into it, an append of one; a row that is cut and cleared. No program in it but its table of types. -/
import Derived.Test.YtiigdcpjelbdjaaGreatDoorM02
import Derived.Deep.AppendSrc
import Derived.Laws.AppendOwn
import Derived.WalkKit
import Derived.Lib.AppendZerosOnto
import Derived.Lib.SliceRun
namespace Go.Proofs.YtiigdcpjelbdjaaGreatDoor
open Go.RowKit
set_option linter.unusedVariables false

/-- An upload. -/
structure U where
  id : ByteArray
  want : Int
  zs : List Int
  done : Bool

/-- An upload of a row: what it says, where its bytes lie. -/
structure UE where
  u : U
  a : Option Addr
  n : Nat
  c : Nat

def UE.cells (e : UE) : List Value := [.string e.u.id, .int .i64 e.u.want, .slice e.a e.n e.c, .bool e.u.done]

def ueCells (l : List UE) : List Value := l.flatMap UE.cells

theorem ueCells_cons (e : UE) (l : List UE) : ueCells (e :: l) = .string e.u.id :: .int .i64 e.u.want :: .slice e.a e.n e.c :: .bool e.u.done :: ueCells l := rfl

theorem ueCells_append (l m : List UE) : ueCells (l ++ m) = ueCells l ++ ueCells m := by simp [ueCells]

theorem ueCells_len (l : List UE) : (ueCells l).length = l.length * 4 := by
  induction l with
  | nil => rfl
  | cons e l ih => rw [ueCells_cons]; simp only [List.length_cons, ih]; omega

theorem ueCells_at (l : List UE) : ∀ i (h : i < l.length), (ueCells l)[i * 4]? = some (.string (l[i]).u.id) ∧ (ueCells l)[i * 4 + 1]? = some (.int .i64 (l[i]).u.want) ∧ (ueCells l)[i * 4 + 2]? = some (.slice (l[i]).a (l[i]).n (l[i]).c) ∧ (ueCells l)[i * 4 + 3]? = some (.bool (l[i]).u.done) := by
  induction l with
  | nil => intro i h; simp at h
  | cons e l ih =>
    intro i h
    cases i with
    | zero => rw [ueCells_cons]; simp
    | succ i =>
      have h' : i < l.length := by simpa using h
      obtain ⟨h0, h1, h2, h3⟩ := ih i h'
      rw [ueCells_cons, show (i + 1) * 4 = i * 4 + 1 + 1 + 1 + 1 by omega]
      refine ⟨?_, ?_, ?_, ?_⟩
      · simpa using h0
      · simpa using h1
      · simpa using h2
      · simpa using h3

theorem ueCells_one (l : List UE) : ∀ u ∈ ueCells l, u.oneCell' = true := by
  intro u hu
  simp only [ueCells, List.mem_flatMap, UE.cells] at hu
  obtain ⟨e, _, hf⟩ := hu
  simp at hf
  rcases hf with rfl | rfl | rfl | rfl <;> rfl

/-- The numbers of an upload in its row are written over. -/
theorem ueCells_set (l : List UE) (e : UE) (m : List UE) (t : ByteArray) (x : Int) :
    ((ueCells (l ++ e :: m)).set (l.length * 4) (.string t)).set (l.length * 4 + 1) (.int .i64 x) = ueCells (l ++ { e with u := ⟨t, x, e.u.zs, e.u.done⟩ } :: m) := by
  have hl := ueCells_len l
  rw [ueCells_append, ueCells_append, ueCells_cons, ueCells_cons]
  rw [List.set_append_right _ _ (by omega), hl, Nat.sub_self, List.set_cons_zero]
  rw [List.set_append_right _ _ (by omega), hl, show l.length * 4 + 1 - l.length * 4 = 1 by omega]
  rfl

theorem ueCells_done (l : List UE) (e : UE) (m : List UE) (b : Bool) :
    (ueCells (l ++ e :: m)).set (l.length * 4 + 3) (.bool b) = ueCells (l ++ { e with u := { e.u with done := b } } :: m) := by
  have hl := ueCells_len l
  rw [ueCells_append, ueCells_append, ueCells_cons, ueCells_cons]
  rw [List.set_append_right _ _ (by omega), hl, show l.length * 4 + 3 - l.length * 4 = 3 by omega]
  rfl

/-- Two bodies do not lie in one block. -/
def uapart (e e' : UE) : Prop := ∀ q, e.a.map (·.block) = some q → e'.a.map (·.block) ≠ some q

/-- A slice value that owns these frames, and each of them its body, no two in one block. -/
def UpRow (W : World) (base : Nat) (v : Value) (l : List UE) : Prop :=
  W.ownsRow base 42 4 v l.length (ueCells l) ∧ (∀ e ∈ l, Owns W base e.a e.n e.c e.u.zs) ∧ l.Pairwise uapart

theorem UpRow.stays {W W' : World} {base : Nat} {v : Value} {l : List UE} (h : UpRow W base v l) (hb : Below W.heap.size W W') : UpRow W' base v l :=
  ⟨own_below h.1 hb, fun e he => (h.2.1 e he).below hb, h.2.2⟩

theorem UpRow.low {W : World} {base b' : Nat} {v : Value} {l : List UE} (h : UpRow W base v l) (hb : b' ≤ base) : UpRow W b' v l :=
  ⟨own_low h.1 hb, fun e he => (h.2.1 e he).low hb, h.2.2⟩

theorem UpRow.shape {W : World} {base : Nat} {v : Value} {l : List UE} (h : UpRow W base v l) : ∃ a c, v = .slice a l.length c := by
  rcases h.1.2 with ⟨rfl, h0⟩ | ⟨g, cap, cur, rfl, _⟩
  · rw [h0]; exact ⟨_, _, rfl⟩
  · exact ⟨_, _, rfl⟩

theorem ownBlock_sU (a : Option Addr) (n cap : Nat) : (Value.slice a n cap).ownBlock = a.map (·.block) := by cases a <;> rfl

/-- The row's block is no body's. -/
theorem UpRow.rowApart {W : World} {base b2 : Nat} {v : Value} {l : List UE} (h : UpRow W base v l) {a : Option Addr} {n c : Nat} {zs : List Int} (ho : Owns W b2 a n c zs) : ∀ q, v.ownBlock = some q → a.map (·.block) ≠ some q := by
  intro q hq
  rcases h.1.2 with ⟨rfl, _⟩ | ⟨g, cap, cur, rfl, _, hg, _⟩
  · cases hq
  · obtain rfl : g = q := by simpa [Value.ownBlock] using hq
    exact ho.other hg (by decide)

theorem UpRow.grown {W W' : World} {base : Nat} {v : Value} {l : List UE} {r : Option Nat} (h : UpRow W base v l) (hg : W.grownBy W' r) (hv : ∀ q, r = some q → v.ownBlock ≠ some q) (hr : ∀ e ∈ l, ∀ q, r = some q → e.a.map (·.block) ≠ some q) : UpRow W' base v l := by
  refine ⟨h.1.kept hg ?_, fun e he => (h.2.1 e he).grown hg (hr e he), h.2.2⟩
  cases e : v.ownBlock with
  | none => exact .inl rfl
  | some k => exact .inr (fun h => hv k h.symm e)

/-- What lies from a bound on is not touched by what lies below it. -/
theorem UpRow.lts {W : World} {base : Nat} {v : Value} {l : List UE} (h : UpRow W base v l) : (∀ q, v.ownBlock = some q → base ≤ q ∧ q < W.heap.size) ∧ ∀ e ∈ l, ∀ q, e.a.map (·.block) = some q → base ≤ q ∧ q < W.heap.size :=
  ⟨h.1.lt, fun e he q hq => (h.2.1 e he).lt q hq⟩

/-- The cells of the upload at an index. -/
theorem UpRow.at {W : World} {base n c : Nat} {a : Option Addr} {l : List UE} (h : UpRow W base (.slice a n c) l) (hn : n = l.length) {i : Nat} (hi : i < l.length) :
    ∃ g, a = some ⟨g, 0, none⟩ ∧ W.cell? ⟨g, i * 4, none⟩ = some (.string (l[i]).u.id) ∧ W.cell? ⟨g, i * 4 + 1, none⟩ = some (.int .i64 (l[i]).u.want) ∧ W.cell? ⟨g, i * 4 + 2, none⟩ = some (.slice (l[i]).a (l[i]).n (l[i]).c) ∧ W.cell? ⟨g, i * 4 + 3, none⟩ = some (.bool (l[i]).u.done) ∧ ∀ j, W.frozen? ⟨g, j, none⟩ = false := by
  rcases h.1.2 with ⟨_, h0⟩ | ⟨g, cap, cur, he, _⟩
  · omega
  · injection he with e1 e2 e3
    subst e1
    have hl := ueCells_len l
    obtain ⟨h0, h1, h2, h3⟩ := ueCells_at l i hi
    have ho := h.1
    rw [hn] at ho
    refine ⟨g, rfl, ?_, ?_, ?_, ?_, fun j => ho.frozenAt j⟩
    · rw [ho.cellAt _ (by omega)]; exact h0
    · rw [ho.cellAt _ (by omega)]; exact h1
    · rw [ho.cellAt _ (by omega)]; exact h2
    · rw [ho.cellAt _ (by omega)]; exact h3

theorem upair_same (M D : List UE) (e e' : UE) (ha : e'.a = e.a) (h : (M ++ e :: D).Pairwise uapart) : (M ++ e' :: D).Pairwise uapart := by
  rw [List.pairwise_append, List.pairwise_cons] at h ⊢
  refine ⟨h.1, ⟨fun y hy q hq => h.2.1.1 y hy q (by rw [← ha]; exact hq), h.2.1.2⟩, fun x hx y hy => ?_⟩
  rcases List.mem_cons.1 hy with rfl | hy
  · intro q hq
    rw [ha]
    exact h.2.2 x hx e (List.mem_cons_self ..) q hq
  · exact h.2.2 x hx y (List.mem_cons_of_mem _ hy)

theorem grow_transU {w w1 w2 : World} {row : Option Nat} (h : w.grownBy w1 row) (k : w1.grownBy w2 row) : w.grownBy w2 row :=
  ⟨k.os.trans h.os, k.tape.trans h.tape, k.output.trans h.output, Nat.le_trans h.size k.size, fun i hi hne => (k.block i (Nat.lt_of_lt_of_le hi h.size) hne).trans (h.block i hi hne)⟩

/-- Cells of an upload are written over in its row, its bytes are as they were. -/
theorem UpRow.renew {W W' : World} {base g n c : Nat} {M D : List UE} {e e' : UE} (h : UpRow W base (.slice (some ⟨g, 0, none⟩) n c) (M ++ e :: D)) (hn : (M ++ e :: D).length = n) (ha : e'.a = e.a ∧ e'.n = e.n ∧ e'.c = e.c ∧ e'.u.zs = e.u.zs) (ho : W'.ownsRow base 42 4 (.slice (some ⟨g, 0, none⟩) n c) n (ueCells (M ++ e' :: D))) (hg : W.grownBy W' (some g)) : UpRow W' base (.slice (some ⟨g, 0, none⟩) n c) (M ++ e' :: D) := by
  refine ⟨?_, ?_, upair_same M D e _ ha.1 h.2.2⟩
  · rw [show (M ++ e' :: D).length = n by rw [← hn]; simp]
    exact ho
  · intro x hx
    have key : ∀ v ∈ M ++ e :: D, Owns W' base v.a v.n v.c v.u.zs := fun v hv => (h.2.1 v hv).grown hg (fun q hq => h.rowApart (h.2.1 v hv) q (by injection hq with hq; subst hq; rfl))
    rcases List.mem_append.1 hx with hx | hx
    · exact key x (List.mem_append_left _ hx)
    · rcases List.mem_cons.1 hx with rfl | hx
      · rw [ha.1, ha.2.1, ha.2.2.1, ha.2.2.2]
        exact key e (List.mem_append_right _ (List.mem_cons_self ..))
      · exact key x (List.mem_append_right _ (List.mem_cons_of_mem _ hx))

/-- An upload's first two cells are written over in its row. -/
theorem UpRow.numbers {W : World} {base g n c : Nat} {M D : List UE} {e : UE} (h : UpRow W base (.slice (some ⟨g, 0, none⟩) n c) (M ++ e :: D)) (hn : (M ++ e :: D).length = n) (t : ByteArray) (x : Int) :
    UpRow ((W.setCell ⟨g, M.length * 4, none⟩ (.string t)).setCell ⟨g, M.length * 4 + 1, none⟩ (.int .i64 x)) base (.slice (some ⟨g, 0, none⟩) n c) (M ++ { e with u := ⟨t, x, e.u.zs, e.u.done⟩ } :: D) ∧ W.grownBy ((W.setCell ⟨g, M.length * 4, none⟩ (.string t)).setCell ⟨g, M.length * 4 + 1, none⟩ (.int .i64 x)) (some g) := by
  have ho := h.1
  rw [hn] at ho
  have h1 := ho.stored (M.length * 4) (.string t)
  have h2 := h1.1.stored (M.length * 4 + 1) (.int .i64 x)
  have a1 : World.grownBy _ _ (some g) := h1.2
  have a2 : World.grownBy _ _ (some g) := h2.2
  have hg := grow_transU a1 a2
  have h6 := h2.1
  rw [ueCells_set] at h6
  exact ⟨h.renew hn ⟨rfl, rfl, rfl, rfl⟩ h6 hg, hg⟩

/-- Whether it is done is written over. -/
theorem UpRow.doned {W : World} {base g n c : Nat} {M D : List UE} {e : UE} (h : UpRow W base (.slice (some ⟨g, 0, none⟩) n c) (M ++ e :: D)) (hn : (M ++ e :: D).length = n) (b : Bool) :
    UpRow (W.setCell ⟨g, M.length * 4 + 3, none⟩ (.bool b)) base (.slice (some ⟨g, 0, none⟩) n c) (M ++ { e with u := { e.u with done := b } } :: D) ∧ W.grownBy (W.setCell ⟨g, M.length * 4 + 3, none⟩ (.bool b)) (some g) := by
  have ho := h.1
  rw [hn] at ho
  have h1 := ho.stored (M.length * 4 + 3) (.bool b)
  have a1 : World.grownBy _ _ (some g) := h1.2
  have h6 := h1.1
  rw [ueCells_done] at h6
  exact ⟨h.renew hn ⟨rfl, rfl, rfl, rfl⟩ h6 a1, a1⟩

/-- A upload's bytes are written over. -/
theorem UpRow.bodied {W W' : World} {base : Nat} {v : Value} {M D : List UE} {e : UE} (h : UpRow W base v (M ++ e :: D)) (zs : List Int) (ho : Owns W' base e.a e.n e.c zs) (hg : W.grownBy W' (e.a.map (·.block))) : UpRow W' base v (M ++ { e with u := { e.u with zs := zs } } :: D) := by
  have hp := h.2.2
  rw [List.pairwise_append, List.pairwise_cons] at hp
  have hrow := h.rowApart (h.2.1 e (List.mem_append_right _ (List.mem_cons_self ..)))
  refine ⟨?_, ?_, upair_same M D e _ rfl h.2.2⟩
  · have h1 : W'.ownsRow base 42 4 v (M ++ e :: D).length (ueCells (M ++ e :: D)) := by
      refine h.1.kept hg ?_
      cases hv : v.ownBlock with
      | none => exact .inl rfl
      | some q => exact .inr (fun hq => hrow q hv hq.symm)
    have e1 : ueCells (M ++ { e with u := { e.u with zs := zs } } :: D) = ueCells (M ++ e :: D) := by rw [ueCells_append, ueCells_append]; rfl
    rw [e1, show (M ++ { e with u := { e.u with zs := zs } } :: D).length = (M ++ e :: D).length by simp]
    exact h1
  · intro u hu
    rcases List.mem_append.1 hu with hu | hu
    · refine (h.2.1 u (List.mem_append_left _ hu)).grown hg (fun q hq hq2 => ?_)
      exact hp.2.2 u hu e (List.mem_cons_self ..) q hq2 hq
    · rcases List.mem_cons.1 hu with rfl | hu
      · exact ho
      · exact (h.2.1 u (List.mem_append_right _ (List.mem_cons_of_mem _ hu))).grown hg (fun q hq => hp.2.1.1 u hu q hq)

/-- What lies below a bound stays where nothing below it is written. -/
theorem UpRow.under {W W' : World} {base B : Nat} {v : Value} {l : List UE} (h : UpRow W base v l) (hb : Below B W W') (h1 : ∀ q, v.ownBlock = some q → q < B) (h2 : ∀ e ∈ l, ∀ q, e.a.map (·.block) = some q → q < B) : UpRow W' base v l := by
  have key : ∀ {e : TypeId} {size n : Nat} {v : Value} {xs : List Value}, W.ownsRow base e size v n xs → (∀ q, v.ownBlock = some q → q < B) → W'.ownsRow base e size v n xs := by
    intro e size n v xs ho hq
    refine ⟨ho.1, ?_⟩
    rcases ho.2 with h0 | ⟨g, cap, cur, rfl, hg, hh, r⟩
    · exact .inl h0
    · exact .inr ⟨g, cap, cur, rfl, hg, (hb.block g (hq g rfl)).trans hh, r⟩
  exact ⟨key h.1 h1, fun e he => ⟨key (h.2.1 e he).1 (fun q hq => h2 e he q (by rw [ownBlock_sU] at hq; exact hq)), (h.2.1 e he).2⟩, h.2.2⟩

theorem UpRow.nil (W : World) : UpRow (W.alloc (.cells #[] 42)) W.heap.size (.slice (some ⟨W.heap.size, 0, none⟩) 0 0) [] :=
  ⟨World.ownsRow_lit W #[] 0 (Nat.le_refl _) (Nat.zero_le _) rfl, by simp, List.Pairwise.nil⟩

end Go.Proofs.YtiigdcpjelbdjaaGreatDoor

namespace Go.Proofs.YtiigdcpjelbdjaaGreatDoor
open Go.RowKit
set_option linter.unusedVariables false

theorem info_up : (Tryz.prog.info? 42).map (fun i => (i.zero, i.size, i.bytes)) = some (some (.agg #[.string ⟨#[]⟩, .int .i64 0, .slice none 0 0, .bool false]), 4, 56) := by kernel_rfl

theorem four_new (W : World) (u : U) (a : Option Addr) (n c : Nat) : ∀ j x, (UE.cells ⟨u, a, n, c⟩)[j]? = some x → (W.alloc (.cells #[.string u.id, .int .i64 u.want, .slice a n c, .bool u.done] 42)).cell? ((⟨W.heap.size, 0, none⟩ : Addr).add j) = some x := by
  intro j x hj
  match j, hj with
  | 0, hj => simp [UE.cells] at hj; subst hj; simp [Addr.add]
  | 1, hj => simp [UE.cells] at hj; subst hj; simp [Addr.add]
  | 2, hj => simp [UE.cells] at hj; subst hj; simp [Addr.add]
  | 3, hj => simp [UE.cells] at hj; subst hj; simp [Addr.add]

theorem four_one (u : U) (a : Option Addr) (n c : Nat) : ∀ x ∈ UE.cells ⟨u, a, n, c⟩, x.oneCell' = true := by
  intro x hx
  simp [UE.cells] at hx
  rcases hx with rfl | rfl | rfl | rfl <;> rfl

/-- An upload more in a row. -/
theorem UpRow.snoc {W W' : World} {base B : Nat} {v v' : Value} {l : List UE} {e : UE} {o : Obj} (h : UpRow W base v l) (he : Owns W B e.a e.n e.c e.u.zs) (hB : base ≤ B) (hl : ∀ x ∈ l, ∀ q, x.a.map (·.block) = some q → q < B) (ho : W'.ownsRow base 42 4 v' (l.length + 1) (ueCells l ++ UE.cells e)) (hg : (W.alloc o).grownBy W' v.ownBlock) : UpRow W' base v' (l ++ [e]) := by
  have hb : Below W.heap.size W (W.alloc o) := (Below.refl _ _).alloc (Nat.le_refl _) _
  have h1 := h.stays hb
  refine ⟨?_, ?_, ?_⟩
  · rw [List.length_append, ueCells_append, show ueCells [e] = UE.cells e by simp [ueCells]]
    exact ho
  · intro x hx
    rcases List.mem_append.1 hx with hx | hx
    · exact (h1.2.1 x hx).grown hg (fun q hq => h1.rowApart (h1.2.1 x hx) q hq)
    · obtain rfl : x = e := by simpa using hx
      exact ((he.below hb).grown hg (fun q hq => h1.rowApart (he.below hb) q hq)).low hB
  · rw [List.pairwise_append]
    refine ⟨h.2.2, by simp, fun x hx y hy q hq hq2 => ?_⟩
    obtain rfl : y = e := by simpa using hy
    have h2 := hl x hx q hq
    have h3 := (he.lt q hq2).1
    omega

end Go.Proofs.YtiigdcpjelbdjaaGreatDoor

namespace Go.Proofs.YtiigdcpjelbdjaaGreatDoor
open Go.RowKit
set_option linter.unusedVariables false

theorem run_room_any {P : Program} (w : World) (t tx ty e : TypeId) (i : TypeInfo) (ht : P.underlying t = some (.slice e)) (hi : P.info? e = some i)
    (g sLen sCap : Nat) (cur : Array Value) (hg : w.heap[g]? = some (.cells cur e (0, 0))) (x : Value) (m : Nat) (news : List Value) (hs : Src P i.size tx x m news w)
    (hroom : sLen + m ≤ sCap) (hfit : sLen * i.size + news.length ≤ cur.size) :
    (Builtin.append_ #[t, tx] ty #[.slice (some ⟨g, 0, none⟩) sLen sCap, x]).run P w =
      .ok (.slice (some ⟨g, 0, none⟩) (sLen + m) sCap) (w.setRow g (cur.toList.take (sLen * i.size) ++ news ++ cur.toList.drop (sLen * i.size + news.length)).toArray) := by
  have hst := run_storeCells_at P g (sLen * i.size) e news 0 cur w hg (by simpa using hfit) hs.one
  simp only [Nat.add_zero] at hst
  rcases hs.kind with ⟨e', hk⟩ | hk <;> simp [Builtin.append_, run_underlying ht, run_underlying hk, sizeOf, typeInfo, hi, hs.len, hroom, hs.cells, Addr.add_lit, hst]

theorem run_append_any {P : Program} (w : World) (base : Nat) (t tx ty e : TypeId) (i : TypeInfo) (z : Value) (size bytes : Nat) (ht : P.underlying t = some (.slice e)) (hi : P.info? e = some i) (hz : i.zero = some z)
    (hsize : i.size = size) (hby : i.bytes = bytes) (hzs : z.cells.size = size) (hsz : 0 < size)
    (g n cap : Nat) (xs : List Value) (hown : w.ownsRow base e size (.slice (some ⟨g, 0, none⟩) n cap) n xs)
    (x : Value) (m : Nat) (news : List Value) (hs : Src P size tx x m news w)
    (h63 : n + m ≤ maxLen) (hbytes : (n + m) * bytes ≤ 140737488355328) (hbase : base ≤ w.heap.size) :
    ∃ v' w', (Builtin.append_ #[t, tx] ty #[.slice (some ⟨g, 0, none⟩) n cap, x]).run P w = .ok v' w' ∧ w'.ownsRow base e size v' (n + m) (xs ++ news) ∧ w.grownBy w' (some g) := by
  subst hsize
  subst hby
  have hsmall : n + m ≤ 9223372036854775807 := by simp only [maxLen] at h63; omega
  have hl := hs.newsLen
  have hlen : (xs ++ news).length = (n + m) * i.size := by rw [List.length_append, hown.1, hl, Nat.add_mul]
  rcases hown.2 with ⟨h, _⟩ | ⟨g', cap', cur, heq, hbg, hg, hnc, hcm, hcs, htake⟩
  · cases h
  · injection heq with e1 e2 e3
    injection e1 with e1
    injection e1 with e1
    subst e1
    subst e3
    by_cases hroom : n + m ≤ cap
    · have hfit : n * i.size + news.length ≤ cur.size := by rw [hl, hcs, ← Nat.add_mul]; exact Nat.mul_le_mul_right _ hroom
      have hr := run_room_any w t tx ty e i ht hi g n cap cur hg x m news hs hroom hfit
      refine ⟨_, _, hr, ⟨hlen, .inr ⟨g, cap, _, rfl, hbg, setRow_heap w g cur _ e _ hg, hroom, hcm, ?_, ?_⟩⟩, ⟨rfl, rfl, rfl, by simp, fun k _ hk => setRow_other w g k _ (fun e => hk (by simp [e]))⟩⟩
      · simp only [List.size_toArray, List.length_append, List.length_take, List.length_drop, Array.length_toList]
        omega
      · rw [htake, ← hlen]
        exact List.take_left
    · have holds : ∀ j u, xs[j]? = some u → w.cell? ((⟨g, 0, none⟩ : Addr).add j) = some u := hown.cells (g := g) rfl
      have hold := run_firstCells_some (P := P) w.drew i.size n ⟨g, 0, none⟩ n cap xs hown.1 (by simpa using holds)
      have hr := run_append_grow_src (P := P) w t tx ty e i z ht hi hz (some ⟨g, 0, none⟩) n cap xs hold x m news hs (by omega) (by omega) (growslice_fits (by omega) hbytes)
      have hge := grownCap_ge w (n + m) cap e
      have hcm' : grownCap w (n + m) cap e ≤ maxLen := grownCap_le_maxLen w (n + m) cap e h63
      refine ⟨_, _, hr, ⟨hlen, .inr ⟨w.heap.size, _, _, rfl, hbase, heap_alloc_new w.drew _, hge, hcm', ?_, ?_⟩⟩, ⟨rfl, rfl, rfl, by simp, fun k hk _ => heap_alloc_old w.drew _ hk⟩⟩
      · simp only [Array.size_append, List.size_toArray, size_zeroCells, hzs, hlen, ← Nat.add_mul]
        congr 1
        omega
      · simp only [Array.toList_append]
        rw [← hlen]
        exact List.take_left

theorem wpList_append_any {P : Program} {w : World} {ops : Array Oper} {rest : List Oper} {o : Oper} {a : Act} {Q : Exit → Act → World → Prop} (hgd : o.guard = none) (s x : Operand) (t tx : TypeId)
    (ho : o.op = .call { callee := .builtin .append, args := #[s, x], argTypes := #[t, tx] })
    (base : Nat) (e : TypeId) (i : TypeInfo) (z : Value) (size bytes : Nat) (ht : P.underlying t = some (.slice e)) (hi : P.info? e = some i) (hz : i.zero = some z)
    (hsize : i.size = size) (hby : i.bytes = bytes) (hzs : z.cells.size = size) (hsz : 0 < size)
    (g n cap : Nat) (xs : List Value) (hs : a.eval s = .slice (some ⟨g, 0, none⟩) n cap) (hown : w.ownsRow base e size (.slice (some ⟨g, 0, none⟩) n cap) n xs)
    (u : Value) (m : Nat) (news : List Value) (hx : a.eval x = u) (hsrc : Src P size tx u m news w)
    (h63 : n + m ≤ maxLen) (hbytes : (n + m) * bytes ≤ 140737488355328) (hbase : base ≤ w.heap.size)
    (h : ∀ v' w', w'.ownsRow base e size v' (n + m) (xs ++ news) → w.grownBy w' (some g) → wpList P ops Q rest (a.put o.dst v') w') : wpList P ops Q (o :: rest) a w := by
  refine wpList_plain hgd fun K hK => ?_
  obtain ⟨v', w', hr, h2, h3⟩ := run_append_any (P := P) w base t tx o.type e i z size bytes ht hi hz hsize hby hzs hsz g n cap xs hown u m news hsrc h63 hbytes hbase
  unfold Oper.wp execOp
  simp only [ho, resolve, invoke, builtin, Sem.run_bind, Sem.run_pure, Result.andThen_ok, List.map_toArray, List.map_cons, List.map_nil, hs, hx, hr]
  exact hK _ _ (h v' w' h2 h3)

end Go.Proofs.YtiigdcpjelbdjaaGreatDoor

namespace Go.Proofs.YtiigdcpjelbdjaaGreatDoor
open Go.RowKit
set_option linter.unusedVariables false

/-- A variable of three cells. -/
def Box3 (W : World) (b : Nat) (t : TypeId) (x y z : Value) : Prop := W.heap[b]? = some (.cells #[x, y, z] t (0, 0))

theorem Box3.lt {W : World} {b : Nat} {t : TypeId} {x y z : Value} (h : Box3 W b t x y z) : b < W.heap.size := (Array.getElem?_eq_some_iff.1 h).1

theorem Box3.stays {W W' : World} {b : Nat} {t : TypeId} {x y z : Value} (h : Box3 W b t x y z) (hb : Below W.heap.size W W') : Box3 W' b t x y z := (hb.block b h.lt).trans h

theorem Box3.alloc {W : World} {b : Nat} {t : TypeId} {x y z : Value} (h : Box3 W b t x y z) (o : Obj) : Box3 (W.alloc o) b t x y z := by
  have hl := h.lt
  show (W.heap.push o)[b]? = _
  rw [Array.getElem?_push, if_neg (by omega)]
  exact h

theorem Box3.new (W : World) (t : TypeId) (x y z : Value) : Box3 (W.alloc (.cells #[x, y, z] t)) W.heap.size t x y z := heap_alloc_new W _

theorem Box3.cells {W : World} {b : Nat} {t : TypeId} {x y z : Value} (h : Box3 W b t x y z) : W.cell? ⟨b, 0, none⟩ = some x ∧ W.cell? ⟨b, 1, none⟩ = some y ∧ W.cell? ⟨b, 2, none⟩ = some z := by
  refine ⟨?_, ?_, ?_⟩ <;> (rw [cell_of_row _ _ _ _ _ _ h]; rfl)

theorem Box3.frozen {W : World} {b : Nat} {t : TypeId} {x y z : Value} (h : Box3 W b t x y z) (i : Nat) : W.frozen? ⟨b, i, none⟩ = false := by simp [World.frozen?, show W.heap[b]? = _ from h]

theorem Box3.grown {W W' : World} {b : Nat} {t : TypeId} {x y z : Value} {r : Option Nat} (h : Box3 W b t x y z) (hg : W.grownBy W' r) (hr : r ≠ some b) : Box3 W' b t x y z := (hg.block b h.lt (Ne.symm hr)).trans h

end Go.Proofs.YtiigdcpjelbdjaaGreatDoor

namespace Go.Proofs.YtiigdcpjelbdjaaGreatDoor
open Go.RowKit
set_option linter.unusedVariables false

/-- A row of uploads of the call's own: its cells alone. -/
def OwnU (w : World) (base : Nat) (a : Option Addr) (n cap : Nat) (l : List UE) : Prop := w.ownsRow base 42 4 (.slice a n cap) n (ueCells l)

theorem OwnU.len {w : World} {base n cap : Nat} {a : Option Addr} {l : List UE} (h : OwnU w base a n cap l) : l.length = n := by
  have h1 : (ueCells l).length = n * 4 := h.1
  rw [ueCells_len] at h1
  omega

theorem OwnU.below {w w' : World} {base n cap : Nat} {a : Option Addr} {l : List UE} (h : OwnU w base a n cap l) (hb : Below w.heap.size w w') : OwnU w' base a n cap l := own_below h hb

theorem OwnU.lt {w : World} {base n cap : Nat} {a : Option Addr} {l : List UE} (h : OwnU w base a n cap l) : ∀ q, a.map (·.block) = some q → base ≤ q ∧ q < w.heap.size := fun q hq => World.ownsRow.lt h q (by rw [ownBlock_sU]; exact hq)

theorem OwnU.kept {w w' : World} {base n cap : Nat} {a : Option Addr} {l : List UE} {r : Option Nat} (h : OwnU w base a n cap l) (hg : w.grownBy w' r) (hr : ∀ q, r = some q → a.map (·.block) ≠ some q) : OwnU w' base a n cap l := by
  refine World.ownsRow.kept h hg ?_
  rw [ownBlock_sU]
  cases e : a.map (·.block) with
  | none => exact .inl rfl
  | some k => exact .inr (fun h2 => hr k h2.symm e)

/-- A block of uploads, with all its cells. -/
def RowU (w : World) (g C : Nat) (cs : List Value) : Prop := w.heap[g]? = some (.cells cs.toArray 42 (0, 0)) ∧ cs.length = C * 4

theorem OwnU.row {w : World} {base g n C : Nat} {l : List UE} (h : OwnU w base (some ⟨g, 0, none⟩) n C l) : ∃ rest, RowU w g C (ueCells l ++ rest) ∧ base ≤ g ∧ n ≤ C ∧ C ≤ maxLen := by
  rcases h.2 with ⟨h0, _⟩ | ⟨g', cap', cur, he, hb, hg, hn, hm, hc, ht⟩
  · cases h0
  · injection he with e1 e2 e3
    injection e1 with e1
    injection e1 with e1
    subst e1
    subst e3
    refine ⟨cur.toList.drop (n * 4), ⟨?_, ?_⟩, hb, hn, hm⟩
    · rw [← ht, List.take_append_drop]
      simpa using hg
    · rw [← ht, List.take_append_drop]
      simpa using hc

theorem RowU.own {w : World} {base g n C : Nat} {l : List UE} {rest : List Value} (h : RowU w g C (ueCells l ++ rest)) (hb : base ≤ g) (hc : C ≤ maxLen) (hl : l.length = n) : OwnU w base (some ⟨g, 0, none⟩) n C l := by
  have h2 := h.2
  rw [List.length_append, ueCells_len] at h2
  refine ⟨by rw [ueCells_len, hl], .inr ⟨g, C, _, rfl, hb, h.1, by omega, hc, by simpa using h.2, ?_⟩⟩
  have : n * 4 = (ueCells l).length := by rw [ueCells_len, hl]
  rw [this]
  simp

theorem RowU.cell {w : World} {g C : Nat} {cs : List Value} (h : RowU w g C cs) (j : Nat) : w.cell? ⟨g, j, none⟩ = cs[j]? := by
  rw [cell_of_row w g j _ _ (0, 0) h.1]
  simp

theorem RowU.lt {w : World} {g C : Nat} {cs : List Value} (h : RowU w g C cs) : g < w.heap.size := (Array.getElem?_eq_some_iff.1 h.1).1

theorem ueCells_drop (l : List UE) (i : Nat) : ueCells (l.drop i) = (ueCells l).drop (i * 4) := by
  by_cases h : i ≤ l.length
  · have e : ueCells l = ueCells (l.take i) ++ ueCells (l.drop i) := by rw [← ueCells_append, List.take_append_drop]
    have hl : (ueCells (l.take i)).length = i * 4 := by rw [ueCells_len, List.length_take]; omega
    rw [e, ← hl, List.drop_left]
  · rw [List.drop_of_length_le (by omega), List.drop_of_length_le (by rw [ueCells_len]; omega)]
    rfl

/-- The cells of a row from the i-th upload on. -/
theorem OwnU.src {w : World} {base g n C : Nat} {l : List UE} (h : OwnU w base (some ⟨g, 0, none⟩) n C l) (i : Nat) : ∀ j v, (ueCells (l.drop i))[j]? = some v → w.cell? ((⟨g, i * 4, none⟩ : Addr).add j) = some v := by
  intro j v hj
  rw [ueCells_drop, List.getElem?_drop] at hj
  have hlt := (List.getElem?_eq_some_iff.1 hj).1
  have hc := World.ownsRow.cellAt h (i * 4 + j) (by rw [ueCells_len] at hlt; have := h.len; omega)
  rw [Addr.add_lit]
  exact hc.trans hj

theorem OwnU.src0 {w : World} {base g n C : Nat} {l : List UE} (h : OwnU w base (some ⟨g, 0, none⟩) n C l) (i : Nat) : ∀ j v, (ueCells (l.take i))[j]? = some v → w.cell? ((⟨g, 0, none⟩ : Addr).add j) = some v := by
  intro j v hj
  have e : ueCells l = ueCells (l.take i) ++ ueCells (l.drop i) := by rw [← ueCells_append, List.take_append_drop]
  have hlt := (List.getElem?_eq_some_iff.1 hj).1
  have hj2 : (ueCells l)[j]? = some v := by rw [e, List.getElem?_append_left hlt]; exact hj
  have hlt2 := (List.getElem?_eq_some_iff.1 hj2).1
  have hc := World.ownsRow.cellAt h j (by rw [ueCells_len] at hlt2; have := h.len; omega)
  rw [Addr.add_lit, Nat.zero_add]
  exact hc.trans hj2

/-- 'copy' of uploads into a row. -/
theorem copyU_run (w : World) (dT sT ty : TypeId) (hu : Tryz.prog.underlying dT = some (.slice 42)) (g C o dLen dCap : Nat) (P T S : List Value) (a : Addr) (sLen sCap : Nat) (zs : List UE)
    (hr : RowU w g C (P ++ T ++ S)) (hT : T.length = zs.length * 4) (ho : P.length = o) (hk : zs.length = Nat.min sLen dLen) (hsrc : ∀ j v, (ueCells zs)[j]? = some v → w.cell? (a.add j) = some v) :
    ∃ w2, (Builtin.copy_ #[dT, sT] ty #[.slice (some ⟨g, o, none⟩) dLen dCap, .slice (some a) sLen sCap]).run Tryz.prog w = .ok (goInt zs.length) w2 ∧ RowU w2 g C (P ++ ueCells zs ++ S) ∧ w.grownBy w2 (some g) := by
  obtain ⟨i0, hi, hz0, hz1, hz2⟩ := info_parts info_up
  have hl := run_loadCells_list (P := Tryz.prog) w a (ueCells zs) hsrc
  have hst := run_storeCells_at Tryz.prog g o _ (ueCells zs) 0 _ w hr.1 (by simp [ueCells_len, hT]; omega) (ueCells_one zs)
  have hzl := ueCells_len zs
  refine ⟨w.setRow g (P ++ ueCells zs ++ S).toArray, ?_, ⟨setRow_heap w g _ _ _ _ hr.1, ?_⟩, ⟨rfl, rfl, rfl, by simp, fun k _ hk => setRow_other w g k _ (fun e => hk (by simp [e]))⟩⟩
  · have e1 : ((P ++ T ++ S).toArray.toList.take (o + 0) ++ ueCells zs ++ (P ++ T ++ S).toArray.toList.drop (o + 0 + (ueCells zs).length)).toArray = (P ++ ueCells zs ++ S).toArray := by
      subst ho
      rw [hzl, ← hT]
      simp [List.drop_append]
    rw [e1] at hst
    rw [hzl] at hl
    simp [Builtin.copy_, run_underlying hu, Builtin.lenOf, Builtin.firstCells, sizeOf, typeInfo, hi, hz1, ← hk, hl, hst]
  · have := hr.2
    simp only [List.length_append] at this ⊢
    omega

/-- An append of uploads onto a row of the call's own, or onto none. -/
theorem appU_run (w : World) (base : Nat) (t tx ty : TypeId) (ht : Tryz.prog.underlying t = some (.slice 42)) (a : Option Addr) (n cap : Nat) (l : List UE) (hown : OwnU w base a n cap l)
    (x : Value) (m : Nat) (zs : List UE) (hs : Src Tryz.prog 4 tx x m (ueCells zs) w) (hm : 0 < m) (h63 : n + m ≤ 2097152) (hbase : base ≤ w.heap.size) :
    ∃ A' C' w', (Builtin.append_ #[t, tx] ty #[.slice a n cap, x]).run Tryz.prog w = .ok (.slice A' (n + m) C') w' ∧ OwnU w' base A' (n + m) C' (l ++ zs) ∧ w.grownBy w' (a.map (·.block)) := by
  obtain ⟨i0, hi, hz0, hz1, hz2⟩ := info_parts info_up
  rcases hown.2 with ⟨h0, hn0⟩ | ⟨g, cap', cur, he, hb, hg, hn, hmx, hc, htk⟩
  · injection h0 with e1 e2 e3
    subst e1 e2 e3
    have hl0 : l = [] := List.eq_nil_of_length_eq_zero hown.len
    subst hl0
    have hs' : Src Tryz.prog i0.size tx x m (ueCells zs) w := by rw [hz1]; exact hs
    have hr := run_append_grow_src (P := Tryz.prog) w t tx ty 42 i0 _ ht hi hz0 none 0 0 [] (run_firstCells_none w.drew i0.size 0 0 0) x m (ueCells zs) hs' (by omega) (by omega) (growslice_fits (by omega) (by rw [hz2]; omega))
    have hge := grownCap_ge w (0 + m) 0 42
    have hcm' : grownCap w (0 + m) 0 42 ≤ maxLen := grownCap_le_maxLen w (0 + m) 0 _ (by unfold maxLen; omega)
    have hl2 := hs.newsLen
    refine ⟨_, _, _, hr, ⟨by rw [List.nil_append, hl2]; omega, .inr ⟨w.heap.size, _, _, rfl, hbase, heap_alloc_new w.drew _, hge, hcm', ?_, ?_⟩⟩, ⟨rfl, rfl, rfl, by simp, fun k hk _ => heap_alloc_old w.drew _ hk⟩⟩
    · simp only [Array.size_append, List.size_toArray, List.nil_append, size_zeroCells, hl2]
      show m * 4 + (_ - _) * 4 = _
      omega
    · simp only [Array.toList_append, List.nil_append]
      have : (0 + m) * 4 = (ueCells zs).length := by rw [hl2]; omega
      rw [this]
      exact List.take_left
  · injection he with e1 e2 e3
    subst e1 e3
    obtain ⟨v', w', hr, ho', hg'⟩ := run_append_any (P := Tryz.prog) w base t tx ty 42 i0 _ 4 56 ht hi hz0 hz1 hz2 rfl (by decide) g n cap (ueCells l) hown x m (ueCells zs) hs (by unfold maxLen; omega) (by omega) hbase
    obtain ⟨A', C', rfl⟩ : ∃ A' C', v' = .slice A' (n + m) C' := by
      rcases ho'.2 with ⟨rfl, h0⟩ | ⟨g, cap, cur, rfl, _⟩
      · rw [h0]; exact ⟨_, _, rfl⟩
      · exact ⟨_, _, rfl⟩
    exact ⟨A', C', w', hr, by rw [OwnU, ueCells_append]; exact ho', hg'⟩

/-- 'clear' of uploads in a row. -/
theorem clearU_run (w : World) (t ty : TypeId) (hu : Tryz.prog.underlying t = some (.slice 42)) (g C o m c : Nat) (P T S : List Value) (hr : RowU w g C (P ++ T ++ S)) (hT : T.length = m * 4) (ho : P.length = o) (hm : 0 < m) :
    ∃ w2 Z, (Builtin.clear_ #[t] ty #[.slice (some ⟨g, o, none⟩) m c]).run Tryz.prog w = .ok (.tuple #[]) w2 ∧ RowU w2 g C (P ++ Z) ∧ w.grownBy w2 (some g) := by
  obtain ⟨i0, hi, hz0, hz1, hz2⟩ := info_parts info_up
  have hv : ∀ w, (zeroValue 42).run Tryz.prog w = .ok (.agg #[.string ⟨#[]⟩, .int .i64 0, .slice none 0 0, .bool false]) w := fun w => by simp [zeroValue, typeInfo, hi, hz0]
  obtain ⟨cs, hcs⟩ : ∃ cs, (Builtin.zeroCells (Value.agg #[.string ⟨#[]⟩, .int .i64 0, .slice none 0 0, .bool false]).cells m) = cs := ⟨_, rfl⟩
  have hcl : cs.size = m * 4 := by
    rw [← hcs, size_zeroCells]
    rfl
  have h1 : ∀ v ∈ cs.toList, v.oneCell' = true := by
    intro v hv'
    rw [← hcs] at hv'
    simp only [Builtin.zeroCells, Value.cells, Array.toList_map, List.mem_map] at hv'
    obtain ⟨k, _, hk⟩ := hv'
    rw [← hk]
    have : k % 4 = 0 ∨ k % 4 = 1 ∨ k % 4 = 2 ∨ k % 4 = 3 := by omega
    rcases this with h | h | h | h <;> simp [h, Value.oneCell']
  have hst := run_storeCells_at Tryz.prog g o _ cs.toList 0 _ w hr.1 (by simp [hcl, hT]; omega) h1
  obtain ⟨m', rfl⟩ : ∃ m', m = m' + 1 := ⟨m - 1, by omega⟩
  refine ⟨w.setRow g (P ++ (cs.toList ++ S)).toArray, cs.toList ++ S, ?_, ⟨setRow_heap w g _ _ _ _ hr.1, ?_⟩, ⟨rfl, rfl, rfl, by simp, fun k _ hk => setRow_other w g k _ (fun e => hk (by simp [e]))⟩⟩
  · have e1 : ((P ++ T ++ S).toArray.toList.take (o + 0) ++ cs.toList ++ (P ++ T ++ S).toArray.toList.drop (o + 0 + cs.toList.length)).toArray = (P ++ (cs.toList ++ S)).toArray := by
      have e2 : cs.toList.length = T.length := by rw [Array.length_toList, hcl, hT]
      subst ho
      rw [e2]
      simp [List.drop_append]
    rw [e1] at hst
    simp [Builtin.clear_, run_underlying hu, hv, hcs, hst]
  · have := hr.2
    simp only [List.length_append, Array.length_toList] at this ⊢
    omega

end Go.Proofs.YtiigdcpjelbdjaaGreatDoor
