/- What is opened of a disk. Rows of records that a call has made: their cells, their bytes. No statement of the program but its table of types. The records of sectors are right, and their numbers fit; no program in it. How long the bytes of uploads come to be; no program in it. What is opened of a disk, said as one answer, and how great it may be; no program in it. What PutUp writes, piece by piece, and what it answers; no program in it. What holds of each upload that records made; what DoneUp answers by the specification. No program in it. Names held against each other; no program in it. -/
import Derived.Test.YtiigdcpjelbdjaaGreatDoorM05
import Derived.Test.YtiigdcpjelbdjaaGreatDoorM06
import Derived.Test.YtiigdcpjelbdjaaGreatDoorM02
import Derived.Lib.Strings
namespace Go.Proofs.YtiigdcpjelbdjaaGreatDoor
open Go.RowKit
set_option linter.unusedVariables false

/-- The epoch, the number of records and the uploads of the store that is opened. -/
def openO (X Y : List ByteArray) : Option (Int × Nat × List U) :=
  match okD X Y, foldU (scanR X) with
  | true, some us => if 10000 < topE X + 1 then none else some (topE X + 1, (scanR X).length, us)
  | _, _ => none

theorem topE_from (l : List ByteArray) : ∀ m : Int, -1 ≤ m → m ≤ 10000 → -1 ≤ l.foldl topStep m ∧ l.foldl topStep m ≤ 10000 := by
  induction l with
  | nil => exact fun m h1 h2 => ⟨h1, h2⟩
  | cons x l ih =>
    intro m h1 h2
    rw [List.foldl_cons]
    have hs : -1 ≤ topStep m x ∧ topStep m x ≤ 10000 := by
      cases h : recOf x with
      | none => rw [topStep_none h]; exact ⟨h1, h2⟩
      | some r =>
        have hr := (okRec_iff (recOf_iff.1 h).1).1
        rw [topStep_some h]
        split <;> omega
    exact ih _ hs.1 hs.2

theorem topE_range (l : List ByteArray) : -1 ≤ topE l ∧ topE l ≤ 10000 := topE_from l (-1) (by omega) (by omega)

/-- The answer. -/
def OpenAns (base : Nat) (X Y : List ByteArray) (e : Ending) (w' : World) : Prop :=
  match openO X Y with
  | none => ∃ v, e = .returned (.tuple #[v, .bool false]) ∧ AnsS base [] [] 0 0 [] v w'
  | some (ep, nx, us) => ∃ v, e = .returned (.tuple #[v, .bool true]) ∧ AnsS base X Y ep (nx : Int) us v w'

end Go.Proofs.YtiigdcpjelbdjaaGreatDoor

namespace Go.Proofs.YtiigdcpjelbdjaaGreatDoor
open Go.RowKit
set_option linter.unusedVariables false

/-- A record of a row: what it says, where its bytes lie. -/
structure RE where
  r : R
  a : Option Addr
  n : Nat
  c : Nat

def RE.cells (e : RE) : List Value := [.int .i64 e.r.e, .int .i64 e.r.q, .int .i64 e.r.k, .string e.r.id, .int .i64 e.r.n, .slice e.a e.n e.c]

def reCells (l : List RE) : List Value := l.flatMap RE.cells

theorem reCells_cons (e : RE) (l : List RE) : reCells (e :: l) = .int .i64 e.r.e :: .int .i64 e.r.q :: .int .i64 e.r.k :: .string e.r.id :: .int .i64 e.r.n :: .slice e.a e.n e.c :: reCells l := rfl

theorem reCells_append (l m : List RE) : reCells (l ++ m) = reCells l ++ reCells m := by simp [reCells]

theorem reCells_len (l : List RE) : (reCells l).length = l.length * 6 := by
  induction l with
  | nil => rfl
  | cons e l ih => rw [reCells_cons]; simp only [List.length_cons, ih]; omega

theorem reCells_at (l : List RE) : ∀ i (h : i < l.length), (reCells l)[i * 6]? = some (.int .i64 (l[i]).r.e) ∧ (reCells l)[i * 6 + 1]? = some (.int .i64 (l[i]).r.q) ∧ (reCells l)[i * 6 + 2]? = some (.int .i64 (l[i]).r.k) ∧ (reCells l)[i * 6 + 3]? = some (.string (l[i]).r.id) ∧ (reCells l)[i * 6 + 4]? = some (.int .i64 (l[i]).r.n) ∧ (reCells l)[i * 6 + 5]? = some (.slice (l[i]).a (l[i]).n (l[i]).c) := by
  induction l with
  | nil => intro i h; simp at h
  | cons e l ih =>
    intro i h
    cases i with
    | zero => rw [reCells_cons]; simp
    | succ i =>
      have h' : i < l.length := by simpa using h
      obtain ⟨h0, h1, h2, h3, h4, h5⟩ := ih i h'
      rw [reCells_cons, show (i + 1) * 6 = i * 6 + 1 + 1 + 1 + 1 + 1 + 1 by omega]
      refine ⟨?_, ?_, ?_, ?_, ?_, ?_⟩
      · simpa using h0
      · simpa using h1
      · simpa using h2
      · simpa using h3
      · simpa using h4
      · simpa using h5

theorem reCells_one (l : List RE) : ∀ u ∈ reCells l, u.oneCell' = true := by
  intro u hu
  simp only [reCells, List.mem_flatMap, RE.cells] at hu
  obtain ⟨e, _, hf⟩ := hu
  simp at hf
  rcases hf with rfl | rfl | rfl | rfl | rfl | rfl <;> rfl

/-- The first five cells of a record in its row are written over. -/
theorem reCells_set (l : List RE) (e : RE) (m : List RE) (x y z : Int) (t : ByteArray) (u : Int) :
    (((((reCells (l ++ e :: m)).set (l.length * 6) (.int .i64 x)).set (l.length * 6 + 1) (.int .i64 y)).set (l.length * 6 + 2) (.int .i64 z)).set (l.length * 6 + 3) (.string t)).set (l.length * 6 + 4) (.int .i64 u) = reCells (l ++ { e with r := ⟨x, y, z, t, u, e.r.zs⟩ } :: m) := by
  have hl := reCells_len l
  rw [reCells_append, reCells_append, reCells_cons, reCells_cons]
  rw [List.set_append_right _ _ (by omega), hl, Nat.sub_self, List.set_cons_zero]
  rw [List.set_append_right _ _ (by omega), hl, show l.length * 6 + 1 - l.length * 6 = 1 by omega]
  rw [List.set_append_right _ _ (by omega), hl, show l.length * 6 + 2 - l.length * 6 = 2 by omega]
  rw [List.set_append_right _ _ (by omega), hl, show l.length * 6 + 3 - l.length * 6 = 3 by omega]
  rw [List.set_append_right _ _ (by omega), hl, show l.length * 6 + 4 - l.length * 6 = 4 by omega]
  rfl

/-- Two bodies do not lie in one block. -/
def rapart (e e' : RE) : Prop := ∀ q, e.a.map (·.block) = some q → e'.a.map (·.block) ≠ some q

/-- A slice value that owns these frames, and each of them its body, no two in one block. -/
def RcRow (W : World) (base : Nat) (v : Value) (l : List RE) : Prop :=
  W.ownsRow base 54 6 v l.length (reCells l) ∧ (∀ e ∈ l, Owns W base e.a e.n e.c e.r.zs) ∧ l.Pairwise rapart

theorem RcRow.stays {W W' : World} {base : Nat} {v : Value} {l : List RE} (h : RcRow W base v l) (hb : Below W.heap.size W W') : RcRow W' base v l :=
  ⟨own_below h.1 hb, fun e he => (h.2.1 e he).below hb, h.2.2⟩

theorem RcRow.low {W : World} {base b' : Nat} {v : Value} {l : List RE} (h : RcRow W base v l) (hb : b' ≤ base) : RcRow W b' v l :=
  ⟨own_low h.1 hb, fun e he => (h.2.1 e he).low hb, h.2.2⟩

theorem RcRow.shape {W : World} {base : Nat} {v : Value} {l : List RE} (h : RcRow W base v l) : ∃ a c, v = .slice a l.length c := by
  rcases h.1.2 with ⟨rfl, h0⟩ | ⟨g, cap, cur, rfl, _⟩
  · rw [h0]; exact ⟨_, _, rfl⟩
  · exact ⟨_, _, rfl⟩

theorem ownBlock_sR (a : Option Addr) (n cap : Nat) : (Value.slice a n cap).ownBlock = a.map (·.block) := by cases a <;> rfl

/-- The row's block is no body's. -/
theorem RcRow.rowApart {W : World} {base b2 : Nat} {v : Value} {l : List RE} (h : RcRow W base v l) {a : Option Addr} {n c : Nat} {zs : List Int} (ho : Owns W b2 a n c zs) : ∀ q, v.ownBlock = some q → a.map (·.block) ≠ some q := by
  intro q hq
  rcases h.1.2 with ⟨rfl, _⟩ | ⟨g, cap, cur, rfl, _, hg, _⟩
  · cases hq
  · obtain rfl : g = q := by simpa [Value.ownBlock] using hq
    exact ho.other hg (by decide)

theorem RcRow.grown {W W' : World} {base : Nat} {v : Value} {l : List RE} {r : Option Nat} (h : RcRow W base v l) (hg : W.grownBy W' r) (hv : ∀ q, r = some q → v.ownBlock ≠ some q) (hr : ∀ e ∈ l, ∀ q, r = some q → e.a.map (·.block) ≠ some q) : RcRow W' base v l := by
  refine ⟨h.1.kept hg ?_, fun e he => (h.2.1 e he).grown hg (hr e he), h.2.2⟩
  cases e : v.ownBlock with
  | none => exact .inl rfl
  | some k => exact .inr (fun h => hv k h.symm e)

/-- What lies from a bound on is not touched by what lies below it. -/
theorem RcRow.lts {W : World} {base : Nat} {v : Value} {l : List RE} (h : RcRow W base v l) : (∀ q, v.ownBlock = some q → base ≤ q ∧ q < W.heap.size) ∧ ∀ e ∈ l, ∀ q, e.a.map (·.block) = some q → base ≤ q ∧ q < W.heap.size :=
  ⟨h.1.lt, fun e he q hq => (h.2.1 e he).lt q hq⟩

/-- The cells of the record at an index. -/
theorem RcRow.at {W : World} {base n c : Nat} {a : Option Addr} {l : List RE} (h : RcRow W base (.slice a n c) l) (hn : n = l.length) {i : Nat} (hi : i < l.length) :
    ∃ g, a = some ⟨g, 0, none⟩ ∧ W.cell? ⟨g, i * 6, none⟩ = some (.int .i64 (l[i]).r.e) ∧ W.cell? ⟨g, i * 6 + 1, none⟩ = some (.int .i64 (l[i]).r.q) ∧ W.cell? ⟨g, i * 6 + 2, none⟩ = some (.int .i64 (l[i]).r.k) ∧ W.cell? ⟨g, i * 6 + 3, none⟩ = some (.string (l[i]).r.id) ∧ W.cell? ⟨g, i * 6 + 4, none⟩ = some (.int .i64 (l[i]).r.n) ∧ W.cell? ⟨g, i * 6 + 5, none⟩ = some (.slice (l[i]).a (l[i]).n (l[i]).c) ∧ ∀ j, W.frozen? ⟨g, j, none⟩ = false := by
  rcases h.1.2 with ⟨_, h0⟩ | ⟨g, cap, cur, he, _⟩
  · omega
  · injection he with e1 e2 e3
    subst e1
    have hl := reCells_len l
    obtain ⟨h0, h1, h2, h3, h4, h5⟩ := reCells_at l i hi
    have ho := h.1
    rw [hn] at ho
    refine ⟨g, rfl, ?_, ?_, ?_, ?_, ?_, ?_, fun j => ho.frozenAt j⟩
    · rw [ho.cellAt _ (by omega)]; exact h0
    · rw [ho.cellAt _ (by omega)]; exact h1
    · rw [ho.cellAt _ (by omega)]; exact h2
    · rw [ho.cellAt _ (by omega)]; exact h3
    · rw [ho.cellAt _ (by omega)]; exact h4
    · rw [ho.cellAt _ (by omega)]; exact h5

theorem rpair_same (M D : List RE) (e e' : RE) (ha : e'.a = e.a) (h : (M ++ e :: D).Pairwise rapart) : (M ++ e' :: D).Pairwise rapart := by
  rw [List.pairwise_append, List.pairwise_cons] at h ⊢
  refine ⟨h.1, ⟨fun y hy q hq => h.2.1.1 y hy q (by rw [← ha]; exact hq), h.2.1.2⟩, fun x hx y hy => ?_⟩
  rcases List.mem_cons.1 hy with rfl | hy
  · intro q hq
    rw [ha]
    exact h.2.2 x hx e (List.mem_cons_self ..) q hq
  · exact h.2.2 x hx y (List.mem_cons_of_mem _ hy)

theorem grow_trans {w w1 w2 : World} {row : Option Nat} (h : w.grownBy w1 row) (k : w1.grownBy w2 row) : w.grownBy w2 row :=
  ⟨k.os.trans h.os, k.tape.trans h.tape, k.output.trans h.output, Nat.le_trans h.size k.size, fun i hi hne => (k.block i (Nat.lt_of_lt_of_le hi h.size) hne).trans (h.block i hi hne)⟩

/-- A record's first five cells are written over in its row. -/
theorem RcRow.numbers {W : World} {base g n c : Nat} {M D : List RE} {e : RE} (h : RcRow W base (.slice (some ⟨g, 0, none⟩) n c) (M ++ e :: D)) (hn : (M ++ e :: D).length = n) (x y z : Int) (t : ByteArray) (u : Int) :
    RcRow (((((W.setCell ⟨g, M.length * 6, none⟩ (.int .i64 x)).setCell ⟨g, M.length * 6 + 1, none⟩ (.int .i64 y)).setCell ⟨g, M.length * 6 + 2, none⟩ (.int .i64 z)).setCell ⟨g, M.length * 6 + 3, none⟩ (.string t)).setCell ⟨g, M.length * 6 + 4, none⟩ (.int .i64 u)) base (.slice (some ⟨g, 0, none⟩) n c) (M ++ { e with r := ⟨x, y, z, t, u, e.r.zs⟩ } :: D) ∧
      W.grownBy (((((W.setCell ⟨g, M.length * 6, none⟩ (.int .i64 x)).setCell ⟨g, M.length * 6 + 1, none⟩ (.int .i64 y)).setCell ⟨g, M.length * 6 + 2, none⟩ (.int .i64 z)).setCell ⟨g, M.length * 6 + 3, none⟩ (.string t)).setCell ⟨g, M.length * 6 + 4, none⟩ (.int .i64 u)) (some g) := by
  have ho := h.1
  rw [hn] at ho
  have h1 := ho.stored (M.length * 6) (.int .i64 x)
  have h2 := h1.1.stored (M.length * 6 + 1) (.int .i64 y)
  have h3 := h2.1.stored (M.length * 6 + 2) (.int .i64 z)
  have h4 := h3.1.stored (M.length * 6 + 3) (.string t)
  have h5 := h4.1.stored (M.length * 6 + 4) (.int .i64 u)
  have hg : W.grownBy (((((W.setCell ⟨g, M.length * 6, none⟩ (.int .i64 x)).setCell ⟨g, M.length * 6 + 1, none⟩ (.int .i64 y)).setCell ⟨g, M.length * 6 + 2, none⟩ (.int .i64 z)).setCell ⟨g, M.length * 6 + 3, none⟩ (.string t)).setCell ⟨g, M.length * 6 + 4, none⟩ (.int .i64 u)) (some g) := by
    have a1 : World.grownBy _ _ (some g) := h1.2
    have a2 : World.grownBy _ _ (some g) := h2.2
    have a3 : World.grownBy _ _ (some g) := h3.2
    have a4 : World.grownBy _ _ (some g) := h4.2
    have a5 : World.grownBy _ _ (some g) := h5.2
    exact grow_trans (grow_trans (grow_trans (grow_trans a1 a2) a3) a4) a5
  refine ⟨⟨?_, ?_, rpair_same M D e _ rfl h.2.2⟩, hg⟩
  · have h6 := h5.1
    rw [reCells_set] at h6
    rw [show (M ++ { e with r := ⟨x, y, z, t, u, e.r.zs⟩ } :: D).length = n by rw [← hn]; simp]
    exact h6
  · intro e' he
    have key : ∀ v ∈ M ++ e :: D, Owns (((((W.setCell ⟨g, M.length * 6, none⟩ (.int .i64 x)).setCell ⟨g, M.length * 6 + 1, none⟩ (.int .i64 y)).setCell ⟨g, M.length * 6 + 2, none⟩ (.int .i64 z)).setCell ⟨g, M.length * 6 + 3, none⟩ (.string t)).setCell ⟨g, M.length * 6 + 4, none⟩ (.int .i64 u)) base v.a v.n v.c v.r.zs := fun v hv => (h.2.1 v hv).grown hg (fun q hq => h.rowApart (h.2.1 v hv) q (by injection hq with hq; subst hq; rfl))
    rcases List.mem_append.1 he with he | he
    · exact key e' (List.mem_append_left _ he)
    · rcases List.mem_cons.1 he with rfl | he
      · exact key e (List.mem_append_right _ (List.mem_cons_self ..))
      · exact key e' (List.mem_append_right _ (List.mem_cons_of_mem _ he))

/-- A record's bytes are written over. -/
theorem RcRow.bodied {W W' : World} {base : Nat} {v : Value} {M D : List RE} {e : RE} (h : RcRow W base v (M ++ e :: D)) (zs : List Int) (ho : Owns W' base e.a e.n e.c zs) (hg : W.grownBy W' (e.a.map (·.block))) : RcRow W' base v (M ++ { e with r := { e.r with zs := zs } } :: D) := by
  have hp := h.2.2
  rw [List.pairwise_append, List.pairwise_cons] at hp
  have hrow := h.rowApart (h.2.1 e (List.mem_append_right _ (List.mem_cons_self ..)))
  refine ⟨?_, ?_, rpair_same M D e _ rfl h.2.2⟩
  · have h1 : W'.ownsRow base 54 6 v (M ++ e :: D).length (reCells (M ++ e :: D)) := by
      refine h.1.kept hg ?_
      cases hv : v.ownBlock with
      | none => exact .inl rfl
      | some q => exact .inr (fun hq => hrow q hv hq.symm)
    have e1 : reCells (M ++ { e with r := { e.r with zs := zs } } :: D) = reCells (M ++ e :: D) := by rw [reCells_append, reCells_append]; rfl
    rw [e1, show (M ++ { e with r := { e.r with zs := zs } } :: D).length = (M ++ e :: D).length by simp]
    exact h1
  · intro u hu
    rcases List.mem_append.1 hu with hu | hu
    · refine (h.2.1 u (List.mem_append_left _ hu)).grown hg (fun q hq hq2 => ?_)
      exact hp.2.2 u hu e (List.mem_cons_self ..) q hq2 hq
    · rcases List.mem_cons.1 hu with rfl | hu
      · exact ho
      · exact (h.2.1 u (List.mem_append_right _ (List.mem_cons_of_mem _ hu))).grown hg (fun q hq => hp.2.1.1 u hu q hq)

/-- What lies below a bound stays where nothing below it is written. -/
theorem RcRow.under {W W' : World} {base B : Nat} {v : Value} {l : List RE} (h : RcRow W base v l) (hb : Below B W W') (h1 : ∀ q, v.ownBlock = some q → q < B) (h2 : ∀ e ∈ l, ∀ q, e.a.map (·.block) = some q → q < B) : RcRow W' base v l := by
  have key : ∀ {e : TypeId} {size n : Nat} {v : Value} {xs : List Value}, W.ownsRow base e size v n xs → (∀ q, v.ownBlock = some q → q < B) → W'.ownsRow base e size v n xs := by
    intro e size n v xs ho hq
    refine ⟨ho.1, ?_⟩
    rcases ho.2 with h0 | ⟨g, cap, cur, rfl, hg, hh, r⟩
    · exact .inl h0
    · exact .inr ⟨g, cap, cur, rfl, hg, (hb.block g (hq g rfl)).trans hh, r⟩
  exact ⟨key h.1 h1, fun e he => ⟨key (h.2.1 e he).1 (fun q hq => h2 e he q (by rw [ownBlock_sR] at hq; exact hq)), (h.2.1 e he).2⟩, h.2.2⟩

theorem RcRow.nil (W : World) : RcRow (W.alloc (.cells #[] 54)) W.heap.size (.slice (some ⟨W.heap.size, 0, none⟩) 0 0) [] :=
  ⟨World.ownsRow_lit W #[] 0 (Nat.le_refl _) (Nat.zero_le _) rfl, by simp, List.Pairwise.nil⟩

end Go.Proofs.YtiigdcpjelbdjaaGreatDoor

namespace Go.Proofs.YtiigdcpjelbdjaaGreatDoor
open Go.RowKit

theorem scan_allok (X : List ByteArray) : ∀ r ∈ scanR X, r.ok = true := by
  intro r hr
  obtain ⟨k, hk, rfl⟩ := List.getElem_of_mem hr
  obtain ⟨⟨x, _, hx⟩, _⟩ := scan_one (List.getElem?_eq_getElem hk)
  exact (recOf_iff.1 hx).1

theorem rows_ns {rs : List RE} {X : List ByteArray} (h : rs.map RE.r = scanR X) : ∀ e ∈ rs, -9223372036854775808 ≤ e.r.n ∧ e.r.n ≤ 9223372036854775807 := by
  intro e he
  have h1 := scan_allok X e.r (by rw [← h]; exact List.mem_map_of_mem he)
  have h2 := okRec_iff h1
  omega

end Go.Proofs.YtiigdcpjelbdjaaGreatDoor

namespace Go.Proofs.YtiigdcpjelbdjaaGreatDoor
open Go.RowKit
set_option linter.unusedVariables false

theorem oneU_zs {l l' : List U} {r : R} {m : Nat} (h : oneU l r = some l') (hl : ∀ u ∈ l, u.zs.length ≤ m) : ∀ u ∈ l', u.zs.length ≤ m + r.zs.length := by
  rw [oneU] at h
  split at h
  · split at h
    · injection h with h
      subst h
      intro u hu
      rcases List.mem_append.1 hu with h | h
      · have := hl u (List.mem_of_mem_take h); omega
      · rcases List.mem_cons.1 h with rfl | h
        · exact Nat.zero_le _
        · have := hl u (List.mem_of_mem_drop h); omega
    · cases h
  · split at h
    · cases h
    · split at h
      · cases h
      · rename_i k _ x hx
        have hxl := hl x (List.mem_of_getElem? hx)
        split at h
        · split at h
          · cases h
          · injection h with h
            subst h
            intro u hu
            rcases List.mem_or_eq_of_mem_set hu with h | rfl
            · have := hl u h; omega
            · simp only [List.length_append]; omega
        · split at h
          · split at h
            · cases h
            · injection h with h
              subst h
              intro u hu
              rcases List.mem_or_eq_of_mem_set hu with h | rfl
              · have := hl u h; omega
              · dsimp only; omega
          · split at h
            · injection h with h
              subst h
              intro u hu
              have := hl u (List.mem_of_mem_eraseIdx hu)
              omega
            · cases h

end Go.Proofs.YtiigdcpjelbdjaaGreatDoor

namespace Go.Proofs.YtiigdcpjelbdjaaGreatDoor
open Go.RowKit
set_option linter.unusedVariables false

structure OA where
  X : List ByteArray
  Y : List ByteArray
  ep : Int
  nx : Int
  us : List U
  ok : Bool

def openA (X Y : List ByteArray) : OA := match openO X Y with
  | none => ⟨[], [], 0, 0, [], false⟩
  | some (ep, nx, us) => ⟨X, Y, ep, (nx : Int), us, true⟩

theorem OpenAns.get {base : Nat} {X Y : List ByteArray} {e : Ending} {w' : World} (h : OpenAns base X Y e w') : ∃ v, e = .returned (.tuple #[v, .bool (openA X Y).ok]) ∧ AnsS base (openA X Y).X (openA X Y).Y (openA X Y).ep (openA X Y).nx (openA X Y).us v w' := by
  rw [OpenAns] at h
  rw [openA]
  cases ho : openO X Y with
  | none => rw [ho] at h; exact h
  | some t =>
    obtain ⟨ep, nx, us⟩ := t
    rw [ho] at h
    exact h

theorem foldlM_zs {rs : List R} : ∀ {us us' : List U} {m : Nat}, (∀ u ∈ us, u.zs.length ≤ m) → (∀ r ∈ rs, r.zs.length ≤ 24) → rs.foldlM oneU us = some us' → ∀ u ∈ us', u.zs.length ≤ m + rs.length * 24 := by
  induction rs with
  | nil =>
    intro us us' m h1 _ h
    obtain rfl : us = us' := by simpa using h
    simpa using h1
  | cons r rs ih =>
    intro us us' m h1 hr h
    rw [List.foldlM_cons] at h
    cases ho : oneU us r with
    | none => rw [ho] at h; cases h
    | some u1 =>
      rw [ho] at h
      have h2 := oneU_zs ho h1
      have h3 := hr r (List.mem_cons_self ..)
      intro u hu
      have h4 := ih (m := m + 24) (fun u hu => by have := h2 u hu; omega) (fun x hx => hr x (List.mem_cons_of_mem _ hx)) h u hu
      rw [List.length_cons]
      omega

/-- The uploads of sectors have few bytes. -/
theorem fold_small {X Y : List ByteArray} {us : List U} (h : okD X Y = true) (hf : foldU (scanR X) = some us) : us.length ≤ 10 ∧ ∀ u ∈ us, u.zs.length ≤ 4800 := by
  have h1 := (okD_iff.1 h).2.1
  have h2 := scanFrom_len X 0 0
  have h3 : (scanR X).length = (scanFrom 0 0 X).length := rfl
  refine ⟨foldlM_len (us := []) (by simp) hf, fun u hu => ?_⟩
  have h4 := foldlM_zs (us := []) (m := 0) (by simp) (fun r hr => (okRec_iff (scan_allok X r hr)).2.2.2.2.2) hf u hu
  omega

theorem openA_sz {X Y : List ByteArray} (h1 : X.length ≤ 1048576) (h2 : Y.length ≤ 1048576) : (openA X Y).X.length ≤ 1048576 ∧ (openA X Y).Y.length ≤ 1048576 ∧ (openA X Y).us.length ≤ 1048576 ∧ ∀ u ∈ (openA X Y).us, u.zs.length ≤ 1048576 := by
  rw [openA]
  cases ho : openO X Y with
  | none => simp
  | some t =>
    obtain ⟨ep, nx, us⟩ := t
    rw [openO] at ho
    split at ho
    · rename_i hok hf
      split at ho
      · cases ho
      · simp only [Option.some.injEq, Prod.mk.injEq] at ho
        obtain ⟨_, _, rfl⟩ := ho
        have h3 := fold_small hok hf
        exact ⟨h1, h2, Nat.le_trans h3.1 (by decide), fun u hu => by have := h3.2 u hu; omega⟩
    · cases ho

end Go.Proofs.YtiigdcpjelbdjaaGreatDoor

namespace Go.Proofs.YtiigdcpjelbdjaaGreatDoor
open Go.RowKit
set_option linter.unusedVariables false

/-- How many pieces. -/
def pcs (n : Nat) : Nat := (n + 23) / 24

/-- The record of a piece. -/
def dataR (id : ByteArray) (off : Int) (zs : List Int) (i : Nat) : R := ⟨0, 0, 2, id, off + ((24 * i : Nat) : Int), (zs.drop (24 * i)).take 24⟩
def dataRs (id : ByteArray) (off : Int) (zs : List Int) : List R := (List.range (pcs zs.length)).map (dataR id off zs)

theorem dataRs_len (id : ByteArray) (off : Int) (zs : List Int) : (dataRs id off zs).length = pcs zs.length := by simp [dataRs]

theorem dataRs_take (id : ByteArray) (off : Int) (zs : List Int) {j : Nat} (h : j ≤ pcs zs.length) : (dataRs id off zs).take j = (List.range j).map (dataR id off zs) := by
  rw [dataRs, ← List.map_take, List.take_range, Nat.min_eq_left h]

/-- The uploads behind j pieces. -/
def putU (us : List U) (k : Nat) (u : U) (zs : List Int) (j : Nat) : List U := us.set k { u with zs := u.zs ++ zs.take (24 * j) }

theorem atU_ids {l m : List U} {id : ByteArray} (h : l.map U.id = m.map U.id) : atU l id = atU m id := by
  have e : ∀ l : List U, atU l id = (l.map U.id).findIdx? (fun i => decide (i = id)) := fun l => by rw [List.findIdx?_map]; rfl
  rw [e l, e m, h]

theorem atU_set {us : List U} {id : ByteArray} {k : Nat} {u v : U} (h : atU us id = some k) (hu : us[k]? = some u) (hv : v.id = u.id) : atU (us.set k v) id = some k := by
  have hid : (us.set k v).map U.id = us.map U.id := by
    rw [List.map_set]
    apply List.ext_getElem?
    intro i
    rw [List.getElem?_set]
    split
    · rename_i he
      subst he
      have hk : k < us.length := (List.getElem?_eq_some_iff.1 hu).1
      rw [List.length_map, if_pos hk, List.getElem?_map, hu, hv]
      rfl
    · rfl
  rw [atU_ids hid]
  exact h

theorem putU_step {us : List U} {id : ByteArray} {k : Nat} {u : U} {off : Int} {zs : List Int} (h : atU us id = some k) (hu : us[k]? = some u) (hd : u.done = false) (ho : off = (u.zs.length : Int)) (hw : off + (zs.length : Int) ≤ u.want) (j : Nat) (hj : j < pcs zs.length) :
    oneU (putU us k u zs j) (dataR id off zs j) = some (putU us k u zs (j + 1)) := by
  have hk : k < us.length := (List.getElem?_eq_some_iff.1 hu).1
  have hjl : 24 * j < zs.length := by unfold pcs at hj; omega
  have h1 : atU (putU us k u zs j) id = some k := atU_set h hu rfl
  have h2 : (putU us k u zs j)[k]? = some { u with zs := u.zs ++ zs.take (24 * j) } := by rw [putU, List.getElem?_set_self hk]
  unfold oneU dataR
  dsimp only
  rw [if_neg (by decide), h1]
  dsimp only
  rw [h2]
  dsimp only
  rw [if_pos rfl, if_neg]
  · rw [putU, putU, List.set_set]
    congr 2
    rw [List.append_assoc]
    congr 2
    rw [show 24 * (j + 1) = 24 * j + 24 by omega, List.take_add]
  · rw [hd, List.length_append, List.length_take, List.length_take, List.length_drop, Nat.min_eq_left (Nat.le_of_lt hjl)]
    simp only [Bool.false_eq_true, false_or, not_or, Decidable.not_not, Int.not_lt]
    refine ⟨by rw [ho]; simp, ?_⟩
    have : min 24 (zs.length - 24 * j) ≤ zs.length - 24 * j := Nat.min_le_right _ _
    omega

theorem putU_zero {us : List U} {k : Nat} {u : U} {zs : List Int} (hu : us[k]? = some u) : putU us k u zs 0 = us := by
  rw [putU]
  simp only [Nat.mul_zero, List.take_zero, List.append_nil]
  apply List.ext_getElem?
  intro i
  rw [List.getElem?_set]
  split
  · rename_i he
    subst he
    rw [if_pos (List.getElem?_eq_some_iff.1 hu).1, hu]
  · rfl

theorem put_fold {us : List U} {id : ByteArray} {k : Nat} {u : U} {off : Int} {zs : List Int} (h : atU us id = some k) (hu : us[k]? = some u) (hd : u.done = false) (ho : off = (u.zs.length : Int)) (hw : off + (zs.length : Int) ≤ u.want) : ∀ j, j ≤ pcs zs.length → ((List.range j).map (dataR id off zs)).foldlM oneU us = some (putU us k u zs j)
  | 0, _ => by rw [putU_zero hu]; rfl
  | j + 1, hj => by
    rw [List.range_succ, List.map_append, List.foldlM_append, put_fold h hu hd ho hw j (by omega)]
    show (some (putU us k u zs j) : Option (List U)).bind (fun l => [dataR id off zs j].foldlM oneU l) = _
    rw [Option.bind_some, List.foldlM_cons, putU_step h hu hd ho hw j (by omega)]
    rfl

/-- What PutUp answers. -/
noncomputable def putA (X Y : List ByteArray) (ep nx : Int) (us : List U) (id : ByteArray) (off : Int) (zs : List Int) : WA :=
  if decB (SOk X Y ep nx us) = true ∧ idB id.data.toList = true ∧ 1 ≤ zs.length ∧ zs.length ≤ 400 then
    match atU us id with
    | none => ⟨X, nx, us, 2⟩
    | some k => match us[k]? with
      | none => ⟨X, nx, us, 2⟩
      | some u =>
        if u.done = true ∨ off ≠ (u.zs.length : Int) ∨ u.want < off + (zs.length : Int) then ⟨X, nx, us, 4⟩
        else if (X.length : Int) - nx < (pcs zs.length : Int) then ⟨X, nx, us, 5⟩ else wroteA X ep nx us (dataRs id off zs)
  else ⟨X, nx, us, 1⟩

/-- The numbers of uploads that records made. -/
theorem foldlM_want {rs : List R} : ∀ {us us' : List U}, (∀ u ∈ us, 0 ≤ u.want ∧ u.want ≤ 1000000000) → (∀ r ∈ rs, r.ok = true) → rs.foldlM oneU us = some us' → ∀ u ∈ us', 0 ≤ u.want ∧ u.want ≤ 1000000000 := by
  induction rs with
  | nil => intro us us' h1 _ h; obtain rfl : us = us' := by simpa using h
           exact h1
  | cons r rs ih =>
    intro us us' h1 hr h
    rw [List.foldlM_cons] at h
    cases ho : oneU us r with
    | none => rw [ho] at h; cases h
    | some u1 =>
      rw [ho] at h
      refine ih (fun u hu => ?_) (fun x hx => hr x (List.mem_cons_of_mem _ hx)) h
      have hrn := okRec_iff (hr r (List.mem_cons_self ..))
      rw [oneU] at ho
      split at ho
      · split at ho
        · injection ho with ho
          subst ho
          rcases List.mem_append.1 hu with h | h
          · exact h1 u (List.mem_of_mem_take h)
          · rcases List.mem_cons.1 h with rfl | h
            · exact hrn.2.2.2.2.1
            · exact h1 u (List.mem_of_mem_drop h)
        · cases ho
      · split at ho
        · cases ho
        · split at ho
          · cases ho
          · rename_i k _ x hx
            have hxl := h1 x (List.mem_of_getElem? hx)
            split at ho
            · split at ho
              · cases ho
              · injection ho with ho
                subst ho
                rcases List.mem_or_eq_of_mem_set hu with h | rfl
                · exact h1 u h
                · exact hxl
            · split at ho
              · split at ho
                · cases ho
                · injection ho with ho
                  subst ho
                  rcases List.mem_or_eq_of_mem_set hu with h | rfl
                  · exact h1 u h
                  · exact hxl
              · split at ho
                · injection ho with ho
                  subst ho
                  exact h1 u (List.mem_of_mem_eraseIdx hu)
                · cases ho

theorem SOk.wants {X Y : List ByteArray} {ep nx : Int} {us : List U} (h : SOk X Y ep nx us) : ∀ u ∈ us, 0 ≤ u.want ∧ u.want ≤ 1000000000 :=
  foldlM_want (us := []) (by simp) (fun r hr => scan_allok X r hr) h.2.2.1

/-- One more record that is written. -/
theorem wroteX_next {X : List ByteArray} {ep : Int} {nx : Nat} {rs : List R} {k : Nat} {r : R} (h : rs[k]? = some r) : wroteX X ep nx (rs.take (k + 1)) = (wroteX X ep nx (rs.take k)).set (nx + k) (txU (r.at ep (nx + k)).put) := by
  have hk : k < rs.length := (List.getElem?_eq_some_iff.1 h).1
  rw [List.take_add_one, h]
  show wroteX X ep nx (rs.take k ++ [r]) = _
  rw [wroteX_snoc, List.length_take, Nat.min_eq_left (by omega)]

theorem dataRs_at (id : ByteArray) (off : Int) (zs : List Int) {j : Nat} (h : j < pcs zs.length) : (dataRs id off zs)[j]? = some (dataR id off zs j) := by
  rw [dataRs, List.getElem?_map, List.getElem?_range h]
  rfl

end Go.Proofs.YtiigdcpjelbdjaaGreatDoor

namespace Go.Proofs.YtiigdcpjelbdjaaGreatDoor
open Go.RowKit
set_option linter.unusedVariables false

/-- What holds of each upload holds of each behind one record more. -/
theorem oneU_each {P : U → Prop} {l l' : List U} {r : R} (h : oneU l r = some l') (hl : ∀ u ∈ l, P u) (hm : r.k = 1 → P ⟨r.id, r.n, [], false⟩) (hd : ∀ u, P u → u.done = false → r.n = (u.zs.length : Int) → r.n + (r.zs.length : Int) ≤ u.want → P { u with zs := u.zs ++ r.zs }) (hf : ∀ u, P u → u.done = false → (u.zs.length : Int) = u.want → P { u with done := true }) : ∀ u ∈ l', P u := by
  intro u hu
  rw [oneU] at h
  split at h
  · rename_i hk
    split at h
    · injection h with h
      subst h
      rcases List.mem_append.1 hu with h | h
      · exact hl u (List.mem_of_mem_take h)
      · rcases List.mem_cons.1 h with rfl | h
        · exact hm hk
        · exact hl u (List.mem_of_mem_drop h)
    · cases h
  · split at h
    · cases h
    · split at h
      · cases h
      · rename_i k _ x hx
        have hxl := hl x (List.mem_of_getElem? hx)
        split at h
        · split at h
          · cases h
          · rename_i hc
            injection h with h
            subst h
            rcases List.mem_or_eq_of_mem_set hu with h | rfl
            · exact hl u h
            · refine hd x hxl ?_ ?_ ?_
              · cases hdn : x.done with
                | false => rfl
                | true => exact absurd (.inl hdn) hc
              · by_cases h9 : r.n = (x.zs.length : Int)
                · exact h9
                · exact absurd (.inr (.inl h9)) hc
              · by_cases h9 : x.want < r.n + (r.zs.length : Int)
                · exact absurd (.inr (.inr h9)) hc
                · omega
        · split at h
          · split at h
            · cases h
            · rename_i hc
              injection h with h
              subst h
              rcases List.mem_or_eq_of_mem_set hu with h | rfl
              · exact hl u h
              · refine hf x hxl ?_ ?_
                · cases hdn : x.done with
                  | false => rfl
                  | true => exact absurd (.inl hdn) hc
                · by_cases h9 : (x.zs.length : Int) = x.want
                  · exact h9
                  · exact absurd (.inr h9) hc
          · split at h
            · injection h with h
              subst h
              exact hl u (List.mem_of_mem_eraseIdx hu)
            · cases h

/-- An upload has no more than it wants, and once it is done just that. -/
def U.fit (u : U) : Prop := (u.zs.length : Int) ≤ u.want ∧ (u.done = true → (u.zs.length : Int) = u.want)

theorem oneU_fit1 {l l' : List U} {r : R} (h : oneU l r = some l') (hl : ∀ u ∈ l, u.fit) (hr : r.k = 1 → 0 ≤ r.n) : ∀ u ∈ l', u.fit := by
  refine oneU_each h hl (fun hk => ⟨hr hk, fun h9 => by cases h9⟩) (fun u hu hdn hn hw => ⟨?_, fun h9 => ?_⟩) (fun u hu hdn hw => ⟨hu.1, fun _ => hw⟩)
  · show ((u.zs ++ r.zs).length : Int) ≤ u.want
    rw [List.length_append]
    omega
  · rw [hdn] at h9; cases h9

theorem foldlM_fit {rs : List R} : ∀ {us us' : List U}, (∀ u ∈ us, u.fit) → (∀ r ∈ rs, r.k = 1 → 0 ≤ r.n) → rs.foldlM oneU us = some us' → ∀ u ∈ us', u.fit := by
  induction rs with
  | nil => intro us us' h1 _ h; obtain rfl : us = us' := by simpa using h
           exact h1
  | cons r rs ih =>
    intro us us' h1 hr h
    rw [List.foldlM_cons] at h
    cases ho : oneU us r with
    | none => rw [ho] at h; cases h
    | some u1 =>
      rw [ho] at h
      exact ih (oneU_fit1 ho h1 (hr r (List.mem_cons_self ..))) (fun x hx => hr x (List.mem_cons_of_mem _ hx)) h

theorem SOk.fits {X Y : List ByteArray} {ep nx : Int} {us : List U} (h : SOk X Y ep nx us) : ∀ u ∈ us, u.fit :=
  foldlM_fit (us := []) (by simp) (fun r hr _ => (okRec_iff (scan_allok X r hr)).2.2.2.2.1.1) h.2.2.1

/-- The sum of bytes. -/
def crcI (zs : List Int) : Int := ((crcL zs ^^^ 4294967295 : Nat) : Int)

def doneR (id : ByteArray) : R := ⟨0, 0, 3, id, 0, []⟩

/-- What the specification's DoneUp answers. -/
noncomputable def doneA (X Y : List ByteArray) (ep nx : Int) (us : List U) (id : ByteArray) (sum : Int) : WA :=
  if decB (SOk X Y ep nx us) = true ∧ idB id.data.toList = true then
    match atU us id with
    | none => ⟨X, nx, us, 2⟩
    | some k => match us[k]? with
      | none => ⟨X, nx, us, 2⟩
      | some u =>
        if (u.zs.length : Int) < u.want then ⟨X, nx, us, 4⟩
        else if sum ≠ crcI u.zs then ⟨X, nx, us, 6⟩
        else if u.done = true then ⟨X, nx, us, 0⟩
        else if nx < (X.length : Int) then wroteA X ep nx us [doneR id] else ⟨X, nx, us, 5⟩
  else ⟨X, nx, us, 1⟩

theorem done_fits {us : List U} {id : ByteArray} {k : Nat} {u : U} (h1 : atU us id = some k) (h2 : us[k]? = some u) (h3 : u.done = false) (h4 : (u.zs.length : Int) = u.want) : oneU us (doneR id) = some (us.set k { u with done := true }) := by
  unfold oneU doneR
  dsimp only
  rw [if_neg (by decide), h1]
  dsimp only
  rw [h2]
  dsimp only
  rw [if_neg (by decide), if_pos rfl, if_neg (by rw [h3]; simp; omega)]

end Go.Proofs.YtiigdcpjelbdjaaGreatDoor

namespace Go.Proofs.YtiigdcpjelbdjaaGreatDoor
open Go.RowKit
set_option linter.unusedVariables false

theorem ids_eq (s t : ByteArray) : (s.toList == t.toList) = decide (s = t) := by
  rw [Bool.eq_iff_iff, beq_iff_eq, decide_eq_true_eq, Lib.toList_data, Lib.toList_data]
  constructor
  · intro h
    cases s
    cases t
    exact congrArg ByteArray.mk (Array.toList_inj.1 h)
  · intro h; rw [h]

end Go.Proofs.YtiigdcpjelbdjaaGreatDoor
