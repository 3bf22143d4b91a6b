/- How long the bytes of uploads come to be; no program in it. Rows of records that a call has made: their cells, their bytes. No statement of the program but its table of types. What the specification's FoldRecs answers. Bytes as a text, wherever they stand. -/
import Derived.Test.YtclkfjlnhcccdaaGreatDoorM14
import Derived.Test.YtclkfjlnhcccdaaGreatDoorM02
import Derived.Test.YtclkfjlnhcccdaaGreatDoorM13
import Derived.Test.YtclkfjlnhcccdaaGreatDoorM16
namespace Go.Proofs.YtclkfjlnhcccdaaGreatDoor
open Go.RowKit
set_option linter.unusedVariables false

theorem oneU_zs {l l' : List U} {r : R} {m : Nat} (h : oneU l r = some l') (hl : ∀ u ∈ l, u.zs.length ≤ m) : ∀ u ∈ l', u.zs.length ≤ m + r.zs.length := by
  rw [oneU] at h
  split at h
  · split at h
    · injection h with h
      subst h
      intro u hu
      rcases List.mem_append.1 hu with h | h
      · have := hl u (List.mem_of_mem_take h); omega
      · rcases List.mem_cons.1 h with rfl | h
        · exact Nat.zero_le _
        · have := hl u (List.mem_of_mem_drop h); omega
    · cases h
  · split at h
    · cases h
    · split at h
      · cases h
      · rename_i k _ x hx
        have hxl := hl x (List.mem_of_getElem? hx)
        split at h
        · split at h
          · cases h
          · injection h with h
            subst h
            intro u hu
            rcases List.mem_or_eq_of_mem_set hu with h | rfl
            · have := hl u h; omega
            · simp only [List.length_append]; omega
        · split at h
          · split at h
            · cases h
            · injection h with h
              subst h
              intro u hu
              rcases List.mem_or_eq_of_mem_set hu with h | rfl
              · have := hl u h; omega
              · dsimp only; omega
          · split at h
            · injection h with h
              subst h
              intro u hu
              have := hl u (List.mem_of_mem_eraseIdx hu)
              omega
            · cases h

end Go.Proofs.YtclkfjlnhcccdaaGreatDoor

namespace Go.Proofs.YtclkfjlnhcccdaaGreatDoor
open Go.RowKit
set_option linter.unusedVariables false

/-- A record of a row: what it says, where its bytes lie. -/
structure RE where
  r : R
  a : Option Addr
  n : Nat
  c : Nat

def RE.cells (e : RE) : List Value := [.int .i64 e.r.e, .int .i64 e.r.q, .int .i64 e.r.k, .string e.r.id, .int .i64 e.r.n, .slice e.a e.n e.c]

def reCells (l : List RE) : List Value := l.flatMap RE.cells

theorem reCells_cons (e : RE) (l : List RE) : reCells (e :: l) = .int .i64 e.r.e :: .int .i64 e.r.q :: .int .i64 e.r.k :: .string e.r.id :: .int .i64 e.r.n :: .slice e.a e.n e.c :: reCells l := rfl

theorem reCells_append (l m : List RE) : reCells (l ++ m) = reCells l ++ reCells m := by simp [reCells]

theorem reCells_len (l : List RE) : (reCells l).length = l.length * 6 := by
  induction l with
  | nil => rfl
  | cons e l ih => rw [reCells_cons]; simp only [List.length_cons, ih]; omega

theorem reCells_at (l : List RE) : ∀ i (h : i < l.length), (reCells l)[i * 6]? = some (.int .i64 (l[i]).r.e) ∧ (reCells l)[i * 6 + 1]? = some (.int .i64 (l[i]).r.q) ∧ (reCells l)[i * 6 + 2]? = some (.int .i64 (l[i]).r.k) ∧ (reCells l)[i * 6 + 3]? = some (.string (l[i]).r.id) ∧ (reCells l)[i * 6 + 4]? = some (.int .i64 (l[i]).r.n) ∧ (reCells l)[i * 6 + 5]? = some (.slice (l[i]).a (l[i]).n (l[i]).c) := by
  induction l with
  | nil => intro i h; simp at h
  | cons e l ih =>
    intro i h
    cases i with
    | zero => rw [reCells_cons]; simp
    | succ i =>
      have h' : i < l.length := by simpa using h
      obtain ⟨h0, h1, h2, h3, h4, h5⟩ := ih i h'
      rw [reCells_cons, show (i + 1) * 6 = i * 6 + 1 + 1 + 1 + 1 + 1 + 1 by omega]
      refine ⟨?_, ?_, ?_, ?_, ?_, ?_⟩
      · simpa using h0
      · simpa using h1
      · simpa using h2
      · simpa using h3
      · simpa using h4
      · simpa using h5

theorem reCells_one (l : List RE) : ∀ u ∈ reCells l, u.oneCell' = true := by
  intro u hu
  simp only [reCells, List.mem_flatMap, RE.cells] at hu
  obtain ⟨e, _, hf⟩ := hu
  simp at hf
  rcases hf with rfl | rfl | rfl | rfl | rfl | rfl <;> rfl

/-- The first five cells of a record in its row are written over. -/
theorem reCells_set (l : List RE) (e : RE) (m : List RE) (x y z : Int) (t : ByteArray) (u : Int) :
    (((((reCells (l ++ e :: m)).set (l.length * 6) (.int .i64 x)).set (l.length * 6 + 1) (.int .i64 y)).set (l.length * 6 + 2) (.int .i64 z)).set (l.length * 6 + 3) (.string t)).set (l.length * 6 + 4) (.int .i64 u) = reCells (l ++ { e with r := ⟨x, y, z, t, u, e.r.zs⟩ } :: m) := by
  have hl := reCells_len l
  rw [reCells_append, reCells_append, reCells_cons, reCells_cons]
  rw [List.set_append_right _ _ (by omega), hl, Nat.sub_self, List.set_cons_zero]
  rw [List.set_append_right _ _ (by omega), hl, show l.length * 6 + 1 - l.length * 6 = 1 by omega]
  rw [List.set_append_right _ _ (by omega), hl, show l.length * 6 + 2 - l.length * 6 = 2 by omega]
  rw [List.set_append_right _ _ (by omega), hl, show l.length * 6 + 3 - l.length * 6 = 3 by omega]
  rw [List.set_append_right _ _ (by omega), hl, show l.length * 6 + 4 - l.length * 6 = 4 by omega]
  rfl

/-- Two bodies do not lie in one block. -/
def rapart (e e' : RE) : Prop := ∀ q, e.a.map (·.block) = some q → e'.a.map (·.block) ≠ some q

/-- A slice value that owns these frames, and each of them its body, no two in one block. -/
def RcRow (W : World) (base : Nat) (v : Value) (l : List RE) : Prop :=
  W.ownsRow base 108 6 v l.length (reCells l) ∧ (∀ e ∈ l, Owns W base e.a e.n e.c e.r.zs) ∧ l.Pairwise rapart

theorem RcRow.stays {W W' : World} {base : Nat} {v : Value} {l : List RE} (h : RcRow W base v l) (hb : Below W.heap.size W W') : RcRow W' base v l :=
  ⟨own_below h.1 hb, fun e he => (h.2.1 e he).below hb, h.2.2⟩

theorem RcRow.low {W : World} {base b' : Nat} {v : Value} {l : List RE} (h : RcRow W base v l) (hb : b' ≤ base) : RcRow W b' v l :=
  ⟨own_low h.1 hb, fun e he => (h.2.1 e he).low hb, h.2.2⟩

theorem RcRow.shape {W : World} {base : Nat} {v : Value} {l : List RE} (h : RcRow W base v l) : ∃ a c, v = .slice a l.length c := by
  rcases h.1.2 with ⟨rfl, h0⟩ | ⟨g, cap, cur, rfl, _⟩
  · rw [h0]; exact ⟨_, _, rfl⟩
  · exact ⟨_, _, rfl⟩

theorem ownBlock_sR (a : Option Addr) (n cap : Nat) : (Value.slice a n cap).ownBlock = a.map (·.block) := by cases a <;> rfl

/-- The row's block is no body's. -/
theorem RcRow.rowApart {W : World} {base b2 : Nat} {v : Value} {l : List RE} (h : RcRow W base v l) {a : Option Addr} {n c : Nat} {zs : List Int} (ho : Owns W b2 a n c zs) : ∀ q, v.ownBlock = some q → a.map (·.block) ≠ some q := by
  intro q hq
  rcases h.1.2 with ⟨rfl, _⟩ | ⟨g, cap, cur, rfl, _, hg, _⟩
  · cases hq
  · obtain rfl : g = q := by simpa [Value.ownBlock] using hq
    exact ho.other hg (by decide)

theorem RcRow.grown {W W' : World} {base : Nat} {v : Value} {l : List RE} {r : Option Nat} (h : RcRow W base v l) (hg : W.grownBy W' r) (hv : ∀ q, r = some q → v.ownBlock ≠ some q) (hr : ∀ e ∈ l, ∀ q, r = some q → e.a.map (·.block) ≠ some q) : RcRow W' base v l := by
  refine ⟨h.1.kept hg ?_, fun e he => (h.2.1 e he).grown hg (hr e he), h.2.2⟩
  cases e : v.ownBlock with
  | none => exact .inl rfl
  | some k => exact .inr (fun h => hv k h.symm e)

/-- What lies from a bound on is not touched by what lies below it. -/
theorem RcRow.lts {W : World} {base : Nat} {v : Value} {l : List RE} (h : RcRow W base v l) : (∀ q, v.ownBlock = some q → base ≤ q ∧ q < W.heap.size) ∧ ∀ e ∈ l, ∀ q, e.a.map (·.block) = some q → base ≤ q ∧ q < W.heap.size :=
  ⟨h.1.lt, fun e he q hq => (h.2.1 e he).lt q hq⟩

/-- The cells of the record at an index. -/
theorem RcRow.at {W : World} {base n c : Nat} {a : Option Addr} {l : List RE} (h : RcRow W base (.slice a n c) l) (hn : n = l.length) {i : Nat} (hi : i < l.length) :
    ∃ g, a = some ⟨g, 0, none⟩ ∧ W.cell? ⟨g, i * 6, none⟩ = some (.int .i64 (l[i]).r.e) ∧ W.cell? ⟨g, i * 6 + 1, none⟩ = some (.int .i64 (l[i]).r.q) ∧ W.cell? ⟨g, i * 6 + 2, none⟩ = some (.int .i64 (l[i]).r.k) ∧ W.cell? ⟨g, i * 6 + 3, none⟩ = some (.string (l[i]).r.id) ∧ W.cell? ⟨g, i * 6 + 4, none⟩ = some (.int .i64 (l[i]).r.n) ∧ W.cell? ⟨g, i * 6 + 5, none⟩ = some (.slice (l[i]).a (l[i]).n (l[i]).c) ∧ ∀ j, W.frozen? ⟨g, j, none⟩ = false := by
  rcases h.1.2 with ⟨_, h0⟩ | ⟨g, cap, cur, he, _⟩
  · omega
  · injection he with e1 e2 e3
    subst e1
    have hl := reCells_len l
    obtain ⟨h0, h1, h2, h3, h4, h5⟩ := reCells_at l i hi
    have ho := h.1
    rw [hn] at ho
    refine ⟨g, rfl, ?_, ?_, ?_, ?_, ?_, ?_, fun j => ho.frozenAt j⟩
    · rw [ho.cellAt _ (by omega)]; exact h0
    · rw [ho.cellAt _ (by omega)]; exact h1
    · rw [ho.cellAt _ (by omega)]; exact h2
    · rw [ho.cellAt _ (by omega)]; exact h3
    · rw [ho.cellAt _ (by omega)]; exact h4
    · rw [ho.cellAt _ (by omega)]; exact h5

theorem rpair_same (M D : List RE) (e e' : RE) (ha : e'.a = e.a) (h : (M ++ e :: D).Pairwise rapart) : (M ++ e' :: D).Pairwise rapart := by
  rw [List.pairwise_append, List.pairwise_cons] at h ⊢
  refine ⟨h.1, ⟨fun y hy q hq => h.2.1.1 y hy q (by rw [← ha]; exact hq), h.2.1.2⟩, fun x hx y hy => ?_⟩
  rcases List.mem_cons.1 hy with rfl | hy
  · intro q hq
    rw [ha]
    exact h.2.2 x hx e (List.mem_cons_self ..) q hq
  · exact h.2.2 x hx y (List.mem_cons_of_mem _ hy)

theorem grow_trans {w w1 w2 : World} {row : Option Nat} (h : w.grownBy w1 row) (k : w1.grownBy w2 row) : w.grownBy w2 row :=
  ⟨k.os.trans h.os, k.tape.trans h.tape, k.output.trans h.output, Nat.le_trans h.size k.size, fun i hi hne => (k.block i (Nat.lt_of_lt_of_le hi h.size) hne).trans (h.block i hi hne)⟩

/-- A record's first five cells are written over in its row. -/
theorem RcRow.numbers {W : World} {base g n c : Nat} {M D : List RE} {e : RE} (h : RcRow W base (.slice (some ⟨g, 0, none⟩) n c) (M ++ e :: D)) (hn : (M ++ e :: D).length = n) (x y z : Int) (t : ByteArray) (u : Int) :
    RcRow (((((W.setCell ⟨g, M.length * 6, none⟩ (.int .i64 x)).setCell ⟨g, M.length * 6 + 1, none⟩ (.int .i64 y)).setCell ⟨g, M.length * 6 + 2, none⟩ (.int .i64 z)).setCell ⟨g, M.length * 6 + 3, none⟩ (.string t)).setCell ⟨g, M.length * 6 + 4, none⟩ (.int .i64 u)) base (.slice (some ⟨g, 0, none⟩) n c) (M ++ { e with r := ⟨x, y, z, t, u, e.r.zs⟩ } :: D) ∧
      W.grownBy (((((W.setCell ⟨g, M.length * 6, none⟩ (.int .i64 x)).setCell ⟨g, M.length * 6 + 1, none⟩ (.int .i64 y)).setCell ⟨g, M.length * 6 + 2, none⟩ (.int .i64 z)).setCell ⟨g, M.length * 6 + 3, none⟩ (.string t)).setCell ⟨g, M.length * 6 + 4, none⟩ (.int .i64 u)) (some g) := by
  have ho := h.1
  rw [hn] at ho
  have h1 := ho.stored (M.length * 6) (.int .i64 x)
  have h2 := h1.1.stored (M.length * 6 + 1) (.int .i64 y)
  have h3 := h2.1.stored (M.length * 6 + 2) (.int .i64 z)
  have h4 := h3.1.stored (M.length * 6 + 3) (.string t)
  have h5 := h4.1.stored (M.length * 6 + 4) (.int .i64 u)
  have hg : W.grownBy (((((W.setCell ⟨g, M.length * 6, none⟩ (.int .i64 x)).setCell ⟨g, M.length * 6 + 1, none⟩ (.int .i64 y)).setCell ⟨g, M.length * 6 + 2, none⟩ (.int .i64 z)).setCell ⟨g, M.length * 6 + 3, none⟩ (.string t)).setCell ⟨g, M.length * 6 + 4, none⟩ (.int .i64 u)) (some g) := by
    have a1 : World.grownBy _ _ (some g) := h1.2
    have a2 : World.grownBy _ _ (some g) := h2.2
    have a3 : World.grownBy _ _ (some g) := h3.2
    have a4 : World.grownBy _ _ (some g) := h4.2
    have a5 : World.grownBy _ _ (some g) := h5.2
    exact grow_trans (grow_trans (grow_trans (grow_trans a1 a2) a3) a4) a5
  refine ⟨⟨?_, ?_, rpair_same M D e _ rfl h.2.2⟩, hg⟩
  · have h6 := h5.1
    rw [reCells_set] at h6
    rw [show (M ++ { e with r := ⟨x, y, z, t, u, e.r.zs⟩ } :: D).length = n by rw [← hn]; simp]
    exact h6
  · intro e' he
    have key : ∀ v ∈ M ++ e :: D, Owns (((((W.setCell ⟨g, M.length * 6, none⟩ (.int .i64 x)).setCell ⟨g, M.length * 6 + 1, none⟩ (.int .i64 y)).setCell ⟨g, M.length * 6 + 2, none⟩ (.int .i64 z)).setCell ⟨g, M.length * 6 + 3, none⟩ (.string t)).setCell ⟨g, M.length * 6 + 4, none⟩ (.int .i64 u)) base v.a v.n v.c v.r.zs := fun v hv => (h.2.1 v hv).grown hg (fun q hq => h.rowApart (h.2.1 v hv) q (by injection hq with hq; subst hq; rfl))
    rcases List.mem_append.1 he with he | he
    · exact key e' (List.mem_append_left _ he)
    · rcases List.mem_cons.1 he with rfl | he
      · exact key e (List.mem_append_right _ (List.mem_cons_self ..))
      · exact key e' (List.mem_append_right _ (List.mem_cons_of_mem _ he))

/-- A record's bytes are written over. -/
theorem RcRow.bodied {W W' : World} {base : Nat} {v : Value} {M D : List RE} {e : RE} (h : RcRow W base v (M ++ e :: D)) (zs : List Int) (ho : Owns W' base e.a e.n e.c zs) (hg : W.grownBy W' (e.a.map (·.block))) : RcRow W' base v (M ++ { e with r := { e.r with zs := zs } } :: D) := by
  have hp := h.2.2
  rw [List.pairwise_append, List.pairwise_cons] at hp
  have hrow := h.rowApart (h.2.1 e (List.mem_append_right _ (List.mem_cons_self ..)))
  refine ⟨?_, ?_, rpair_same M D e _ rfl h.2.2⟩
  · have h1 : W'.ownsRow base 108 6 v (M ++ e :: D).length (reCells (M ++ e :: D)) := by
      refine h.1.kept hg ?_
      cases hv : v.ownBlock with
      | none => exact .inl rfl
      | some q => exact .inr (fun hq => hrow q hv hq.symm)
    have e1 : reCells (M ++ { e with r := { e.r with zs := zs } } :: D) = reCells (M ++ e :: D) := by rw [reCells_append, reCells_append]; rfl
    rw [e1, show (M ++ { e with r := { e.r with zs := zs } } :: D).length = (M ++ e :: D).length by simp]
    exact h1
  · intro u hu
    rcases List.mem_append.1 hu with hu | hu
    · refine (h.2.1 u (List.mem_append_left _ hu)).grown hg (fun q hq hq2 => ?_)
      exact hp.2.2 u hu e (List.mem_cons_self ..) q hq2 hq
    · rcases List.mem_cons.1 hu with rfl | hu
      · exact ho
      · exact (h.2.1 u (List.mem_append_right _ (List.mem_cons_of_mem _ hu))).grown hg (fun q hq => hp.2.1.1 u hu q hq)

/-- What lies below a bound stays where nothing below it is written. -/
theorem RcRow.under {W W' : World} {base B : Nat} {v : Value} {l : List RE} (h : RcRow W base v l) (hb : Below B W W') (h1 : ∀ q, v.ownBlock = some q → q < B) (h2 : ∀ e ∈ l, ∀ q, e.a.map (·.block) = some q → q < B) : RcRow W' base v l := by
  have key : ∀ {e : TypeId} {size n : Nat} {v : Value} {xs : List Value}, W.ownsRow base e size v n xs → (∀ q, v.ownBlock = some q → q < B) → W'.ownsRow base e size v n xs := by
    intro e size n v xs ho hq
    refine ⟨ho.1, ?_⟩
    rcases ho.2 with h0 | ⟨g, cap, cur, rfl, hg, hh, r⟩
    · exact .inl h0
    · exact .inr ⟨g, cap, cur, rfl, hg, (hb.block g (hq g rfl)).trans hh, r⟩
  exact ⟨key h.1 h1, fun e he => ⟨key (h.2.1 e he).1 (fun q hq => h2 e he q (by rw [ownBlock_sR] at hq; exact hq)), (h.2.1 e he).2⟩, h.2.2⟩

theorem RcRow.nil (W : World) : RcRow (W.alloc (.cells #[] 108)) W.heap.size (.slice (some ⟨W.heap.size, 0, none⟩) 0 0) [] :=
  ⟨World.ownsRow_lit W #[] 0 (Nat.le_refl _) (Nat.zero_le _) rfl, by simp, List.Pairwise.nil⟩

end Go.Proofs.YtclkfjlnhcccdaaGreatDoor

namespace Go.Proofs.YtclkfjlnhcccdaaGreatDoor
open Go.RowKit
set_option linter.unusedVariables false

set_option maxRecDepth 10000 in
set_option maxHeartbeats 1600000 in
theorem specFold_any (a : Option Addr) (n c lo : Nat) (rs : List RE) (B : Nat) (w : World) (h : RcRow w lo (.slice a n c) rs) (hn : n = rs.length) (hl : n ≤ 1099511627776) (hB : ∀ e ∈ rs, e.n ≤ B) (hnB : n * B ≤ 1099511627776) (hB2 : B ≤ 1099511627776) :
    Calls Tryz.prog 64 #[.slice a n c] w fun e w' => (∃ x l', e = .returned (.tuple #[x, .bool (foldU (rs.map RE.r)).isSome]) ∧ UpRow w' w.heap.size x l' ∧ l'.map UE.u = (foldU (rs.map RE.r)).getD [] ∧ l'.length ≤ 10) ∧ Below w.heap.size w w' := by
  have HX : Hid (∀ W, Below w.heap.size w W → RcRow W lo (.slice a n c) rs) := fun W hb => h.stays hb
  have HN : Hid (n = rs.length) := hn
  have HB : Hid (∀ e ∈ rs, e.n ≤ B) := hB
  clear h hn hB
  have HO0 : Hid (UpRow (w.alloc (.cells #[] 112)) w.heap.size (.slice (some ⟨w.heap.size, 0, none⟩) 0 0) []) := UpRow.nil w
  have HB0 : Hid (Below w.heap.size w (w.alloc (.cells #[] 112))) := (Below.refl _ _).alloc (Nat.le_refl _) _
  go_enter Tryz.func64, Tryz.ntmps64
  go_wp2_with fail
  go_loopw [4, 5] (fun v i wr => ∃ (k : Nat) (l : List UE), k ≤ n ∧ i = .int .i64 (k : Int) ∧ l.length ≤ 10 ∧ Hid (UpRow wr w.heap.size v l) ∧ Hid (foldU ((rs.map RE.r).take k) = some (l.map UE.u)) ∧ Hid (∀ u ∈ l.map UE.u, u.zs.length ≤ k * B) ∧ Hid (Below w.heap.size w wr)) (fun _ i _ => n - (intOf i).toNat)
  case atStart => exact ⟨0, [], Nat.zero_le _, rfl, Nat.zero_le _, HO0, rfl, (fun u hu => absurd hu (by simp)), HB0⟩
  case round =>
    clear HO0 HB0
    obtain ⟨k, l, hk, rfl, hl10, HO, HF, HS, HW⟩ := hrel
    obtain ⟨va, vc, hve⟩ := HO.out.shape
    subst hve
    by_cases hlt : k < n
    case neg =>
      obtain rfl : k = n := by omega
      have HE : Hid (foldU (rs.map RE.r) = some (l.map UE.u)) := by show _ = _; rw [← HF.out, List.take_of_length_le (by rw [List.length_map, HN.out]; exact Nat.le_refl _)]
      clear HF HS
      go_wp2_with fail
      go_ret2
      exact ⟨⟨_, l, by rw [HE.out]; rfl, HO.out, by rw [HE.out]; rfl, hl10⟩, HW.out⟩
    have hkl : k < rs.length := by rw [← HN.out]; exact hlt
    have hki : (k : Int) < (n : Int) := by omega
    have hk0 : (0 : Int) ≤ (k : Int) := by omega
    have hkB : k * B ≤ 1099511627776 := Nat.le_trans (Nat.mul_le_mul_right _ hk) hnB
    obtain ⟨g, rfl, g0, g1, g2, g3, g4, g5, _⟩ := (HX.out _ HW.out).at HN.out hkl
    have HSg : Hid (Seg wr (rs[k]).a (rs[k]).n (rs[k]).r.zs) := ((HX.out _ HW.out).2.1 (rs[k]) (List.getElem_mem hkl)).seg
    have hen : (rs[k]).n ≤ B := HB.out _ (List.getElem_mem hkl)
    have HSt : Hid (foldU ((rs.map RE.r).take (k + 1)) = oneU (l.map UE.u) (rs[k]).r) := by
      show _ = _
      rw [foldU_step (rs.map RE.r) k (rs[k]).r (by rw [List.getElem?_map, List.getElem?_eq_getElem hkl]; rfl), HF.out]
      rfl
    have HSp : Hid (foldU ((rs.map RE.r).take (k + 1)) = none → foldU (rs.map RE.r) = none) := foldU_stop _ _
    generalize rs[k] = e at *
    have HZl : Hid (∀ x ∈ l, x.n ≤ 1099511627776) := fun x hx => by
      have h1 := (HO.out.2.1 x hx).seg.1
      have h2 := HS.out x.u (List.mem_map_of_mem hx)
      omega
    have hen2 : e.n ≤ 1099511627776 := by omega
    clear HF
    go_wp2_with fail
    refine (specOne_any va l.length vc w.heap.size l e.r e.a e.n e.c wr HO.out rfl (by omega) HZl.out HSg.out hen2).mono ?_
    rintro _ x1 ⟨⟨v1, rfl, hans⟩, hb1⟩
    have HB1 : Hid (Below w.heap.size w x1) := HW.out.trans (hb1.mono HW.out.size)
    have hwl : w.heap.size ≤ wr.heap.size := HW.out.size
    cases ho : oneU (l.map UE.u) e.r with
    | none =>
      rw [ho] at hans
      obtain ⟨x, rfl⟩ := hans
      have HE : Hid (foldU (rs.map RE.r) = none) := HSp.out (by rw [HSt.out]; exact ho)
      have HU : Hid (UpRow (x1.alloc (.cells #[] 112)) w.heap.size (.slice (some ⟨x1.heap.size, 0, none⟩) 0 0) []) := (UpRow.nil x1).low (by have := HB1.out.size; omega)
      have HBf : Hid (Below w.heap.size w (x1.alloc (.cells #[] 112))) := HB1.out.alloc HB1.out.size _
      clear hb1 ho HO HSt HSp HSg HS
      go_wp2_with fail
      go_ret2
      exact ⟨⟨_, [], by rw [HE.out]; rfl, HU.out, by rw [HE.out]; rfl, Nat.zero_le _⟩, HBf.out⟩
    | some L =>
      rw [ho] at hans
      obtain ⟨x, l', rfl, hrow, hmp⟩ := hans
      have HU : Hid (UpRow x1 w.heap.size x l') := hrow.low hwl
      have HF2 : Hid (foldU ((rs.map RE.r).take (k + 1)) = some (l'.map UE.u)) := by show _ = _; rw [HSt.out, ho, hmp]
      have HS2 : Hid (∀ u ∈ l'.map UE.u, u.zs.length ≤ (k + 1) * B) := fun u hu => by
        have h1 := oneU_zs ho HS.out u (by rw [← hmp]; exact hu)
        have h2 := HSg.out.1
        rw [Nat.add_mul, Nat.one_mul]
        omega
      have h10 : l'.length ≤ 10 := by
        have h1 := oneU_len ho
        have h2 := congrArg List.length hmp
        rw [List.length_map] at h1 h2
        omega
      clear hb1 ho hrow hmp HO HSt HSp HSg HS
      go_wp2_with fail
      go_roundw
      case rel => exact ⟨k + 1, l', by omega, by go_num, h10, HU, HF2, HS2, HB1⟩
      case measure => simp [intOf]; omega

end Go.Proofs.YtclkfjlnhcccdaaGreatDoor

namespace Go.Proofs.YtclkfjlnhcccdaaGreatDoor
open Go.RowKit
set_option linter.unusedVariables false

theorem conv_bytes {W : World} {a : Option Addr} {M c : Nat} {zs : List Int} (h : Seg W a M zs) : (convert 102 9 (.slice a M c)).run Tryz.prog W = .ok (.string (txU zs)) W := by
  rcases h.2.2 with h0 | ⟨b, off, e, _⟩
  · subst h0
    obtain rfl : zs = [] := List.eq_nil_of_length_eq_zero h.1
    cases a with
    | none => simp [go_sem, convert, txU, Conv.bytesToString, loadCells]; rfl
    | some ad => simp [go_sem, convert, txU, Conv.bytesToString, loadCells]; rfl
  · subst e
    exact conv_txt_at h

theorem txU_same {xs ys : List Int} (hx : ∀ z ∈ xs, 0 ≤ z ∧ z ≤ 255) (hy : ∀ z ∈ ys, 0 ≤ z ∧ z ≤ 255) : txU xs = txU ys ↔ xs = ys :=
  ⟨fun h => by rw [← txI_txU xs hx, h, txI_txU ys hy], fun h => by rw [h]⟩

end Go.Proofs.YtclkfjlnhcccdaaGreatDoor
