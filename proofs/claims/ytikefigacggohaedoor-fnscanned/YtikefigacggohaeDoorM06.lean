/- A disk in a variable of a draw's whose sectors are put; no program in it but its table of types. A variable of any number of cells: no program in it. What GetRec answers of a text; no program in it. A record in a variable of a draw's; no program in it but its table of types. A text that is drawn: one of a list. For codes of at most 2^40 bytes. -/
import Derived.Test.YtikefigacggohaeDoorM05
import Derived.Test.YtikefigacggohaeDoorM05
import Derived.Test.YtikefigacggohaeDoorM01
import Derived.Test.YtikefigacggohaeDoorM02
namespace Go.Proofs.YtikefigacggohaeDoor
open Go.RowKit
set_option linter.unusedVariables false

theorem putT_sz (e q k : Int) (id : ByteArray) (n : Int) (zs : List Int) : (putT e q k id n zs).size ≤ 48 := by
  rw [putT]
  split
  · rename_i h
    obtain ⟨_, _, _, hi, _, hd⟩ := okRec_iff h
    rw [txU_size]
    have := put_len ⟨e, q, k, id, n, zs⟩
    rw [R.put, R.body] at this
    dsimp only at this
    omega
  · exact Nat.zero_le _

theorem ownSt_at {W : World} {base n C : Nat} {A : Option Addr} {X : List ByteArray} (h : OwnSt W base (.slice A n C) n X) (hn : 0 < n) : ∃ g, A = some ⟨g, 0, none⟩ := by
  rcases h.1.2 with ⟨_, h0⟩ | ⟨g, cap', cur, he, _⟩
  · omega
  · injection he with e1 _ _
    exact ⟨g, e1⟩

/-- A sector in Now is put. -/
theorem DV.putN {w W : World} {b n n' C C' : Nat} {A' : Option Addr} {X Y : List ByteArray} {g : Nat} (h : DV w W b (some ⟨g, 0, none⟩) n C A' n' C' X Y) (k : Nat) (x : ByteArray) (hx : x.size ≤ maxLen) : DV w (W.setCell ⟨g, k, none⟩ (.string x)) b (some ⟨g, 0, none⟩) n C A' n' C' (X.set k x) Y := by
  obtain ⟨h1, h2, h3, h4, h5, h6, h7⟩ := h
  have hg := h5 g rfl
  have hlt := (h3.lt g rfl).1
  have n1 : blkOf (.slice A' n' C') ≠ some g := fun e => by rw [blkOf_sV] at e; exact hg.2 e
  refine ⟨h1.other (fun e => hg.1 e.symm) _, h2.other (by omega) _, ?_, h4.setCell n1 _, h5, h6, h7⟩
  refine ⟨?_, fun y hy => ?_⟩
  · rw [← scells_set]
    exact (h3.1.stored k (.string x)).1
  · rcases List.mem_or_eq_of_mem_set hy with h | rfl
    · exact h3.2 y h
    · exact hx

/-- A sector in Sure is put. -/
theorem DV.putS {w W : World} {b n n' C C' : Nat} {A : Option Addr} {X Y : List ByteArray} {g : Nat} (h : DV w W b A n C (some ⟨g, 0, none⟩) n' C' X Y) (k : Nat) (x : ByteArray) (hx : x.size ≤ maxLen) : DV w (W.setCell ⟨g, k, none⟩ (.string x)) b A n C (some ⟨g, 0, none⟩) n' C' X (Y.set k x) := by
  obtain ⟨h1, h2, h3, h4, h5, h6, h7⟩ := h
  have hg := h6 g rfl
  have hlt := (h4.lt g rfl).1
  have n1 : blkOf (.slice A n C) ≠ some g := fun e => by rw [blkOf_sV] at e; exact (h5 g e).2 rfl
  refine ⟨h1.other (fun e => hg e.symm) _, h2.other (by omega) _, h3.setCell n1 _, ?_, h5, h6, h7⟩
  refine ⟨?_, fun y hy => ?_⟩
  · rw [← scells_set]
    exact (h4.1.stored k (.string x)).1
  · rcases List.mem_or_eq_of_mem_set hy with h | rfl
    · exact h4.2 y h
    · exact hx

/-- A cell of a row of texts, and that it is not frozen. -/
theorem ownSt_cell {W : World} {base g n C : Nat} {X : List ByteArray} (h : OwnSt W base (.slice (some ⟨g, 0, none⟩) n C) n X) {k : Nat} (hk : k < n) : ∃ x, X[k]? = some x ∧ W.cell? ⟨g, k, none⟩ = some (.string x) ∧ W.frozen? ⟨g, k, none⟩ = false := by
  have hl : X.length = n := h.len
  have hk' : k < X.length := by omega
  refine ⟨X[k], List.getElem?_eq_getElem hk', ?_, h.1.frozenAt _⟩
  rw [h.1.cellAt _ (by omega)]
  simp [scells, List.getElem?_eq_getElem hk']

/-- Some disk of five sectors of short texts, in memory of its own. -/
def Drawn5 (base : Nat) (v : Value) (w' : World) : Prop := ∃ X Y, AnsD base X Y v w' ∧ X.length = 5 ∧ Y.length = 5 ∧ ∀ x ∈ X, x.size ≤ 48

end Go.Proofs.YtikefigacggohaeDoor

namespace Go.Proofs.YtikefigacggohaeDoor
open Go.RowKit
set_option linter.unusedVariables false

/-- The block holds a variable of these cells. -/
def BoxN (W : World) (b : Nat) (t : TypeId) (vs : List Value) : Prop := W.heap[b]? = some (.cells vs.toArray t (0, 0))

section
variable {W W' : World} {b : Nat} {t : TypeId} {vs : List Value}

theorem BoxN.lt (h : BoxN W b t vs) : b < W.heap.size := (Array.getElem?_eq_some_iff.1 h).1
theorem BoxN.stays (h : BoxN W b t vs) (hb : Below W.heap.size W W') : BoxN W' b t vs := (hb.block b h.lt).trans h
theorem BoxN.alloc (h : BoxN W b t vs) (o : Obj) : BoxN (W.alloc o) b t vs := h.stays ((Below.refl _ _).alloc (Nat.le_refl _) _)
theorem BoxN.new (W : World) (t : TypeId) (vs : List Value) : BoxN (W.alloc (.cells vs.toArray t)) W.heap.size t vs := heap_alloc_new W _

theorem BoxN.cell (h : BoxN W b t vs) (i : Nat) {v : Value} (hv : vs[i]? = some v) : W.cell? ⟨b, i, none⟩ = some v := by
  have h' : W.heap[b]? = some (.cells vs.toArray t (0, 0)) := h
  rw [cell_of_row _ _ _ _ _ _ h', ← hv]
  simp

theorem BoxN.frozen (h : BoxN W b t vs) (i : Nat) : W.frozen? ⟨b, i, none⟩ = false := by simp [World.frozen?, show W.heap[b]? = _ from h]
theorem BoxN.grown {r : Option Nat} (h : BoxN W b t vs) (hg : W.grownBy W' r) (hr : r ≠ some b) : BoxN W' b t vs := (hg.block b h.lt (Ne.symm hr)).trans h

theorem BoxN.set (h : BoxN W b t vs) (i : Nat) (v : Value) : BoxN (W.setCell ⟨b, i, none⟩ v) b t (vs.set i v) := by
  show (W.setCell ⟨b, i, none⟩ v).heap[b]? = _
  rw [setCell_eq_setRow W b i _ t (0, 0) _ h, setRow_heap W b _ _ t (0, 0) h]
  simp

theorem BoxN.other {b' k : Nat} (h : BoxN W b t vs) (hne : b ≠ b') (v : Value) : BoxN (W.setCell ⟨b', k, none⟩ v) b t vs := (set_block_ne W b b' k v hne).trans h
end

end Go.Proofs.YtikefigacggohaeDoor

namespace Go.Proofs.YtikefigacggohaeDoor
open Go.RowKit
set_option linter.unusedVariables false

/-- What GetRec answers. -/
def GotR (base : Nat) (s : ByteArray) (v : Value) (w' : World) : Prop :=
  (recOf s = none ∧ v = .tuple #[.agg #[.int .i64 0, .int .i64 0, .int .i64 0, .string ⟨#[]⟩, .int .i64 0, .slice none 0 0], .bool false]) ∨
  ∃ r A C, recOf s = some r ∧ v = .tuple #[.agg #[.int .i64 r.e, .int .i64 r.q, .int .i64 r.k, .string r.id, .int .i64 r.n, .slice A r.zs.length C], .bool true] ∧ Owns w' base A r.zs.length C r.zs

/-- The record that is answered, and whether there is one. -/
def gotV (s : ByteArray) : R × Bool := match recOf s with
  | none => (⟨0, 0, 0, ⟨#[]⟩, 0, []⟩, false)
  | some r => (r, true)

theorem GotR.one {base : Nat} {s : ByteArray} {v : Value} {w' : World} (h : GotR base s v w') : ∃ A C, v = .tuple #[.agg #[.int .i64 (gotV s).1.e, .int .i64 (gotV s).1.q, .int .i64 (gotV s).1.k, .string (gotV s).1.id, .int .i64 (gotV s).1.n, .slice A (gotV s).1.zs.length C], .bool (gotV s).2] ∧ Owns w' base A (gotV s).1.zs.length C (gotV s).1.zs := by
  rcases h with ⟨h1, rfl⟩ | ⟨r, A, C, h1, rfl, ho⟩
  · rw [gotV, h1]
    exact ⟨none, 0, rfl, ⟨⟨rfl, .inl ⟨rfl, rfl⟩⟩, by simp⟩⟩
  · rw [gotV, h1]
    exact ⟨A, C, rfl, ho⟩

theorem gotV_len (s : ByteArray) : (gotV s).1.zs.length ≤ 24 := by
  cases h : recOf s with
  | none => rw [gotV, h]; exact Nat.zero_le _
  | some r =>
    rw [gotV, h]
    exact (okRec_iff (recOf_iff.1 h).1).2.2.2.2.2

/-- A record in a variable of the law's, its bytes in memory of its own from lo on and ahead of it. -/
def RB (W : World) (b lo : Nat) (r : R) (A : Option Addr) (d C : Nat) (zs : List Int) : Prop :=
  BoxN W b 43 [.int .i64 r.e, .int .i64 r.q, .int .i64 r.k, .string r.id, .int .i64 r.n, .slice A d C] ∧ Owns W lo A d C zs ∧ (∀ q, A.map (·.block) = some q → q < b) ∧ lo ≤ b

section
variable {W W' : World} {b lo d C : Nat} {r : R} {A : Option Addr} {zs : List Int}

theorem RB.stays (h : RB W b lo r A d C zs) (hb : Below W.heap.size W W') : RB W' b lo r A d C zs := ⟨h.1.stays hb, h.2.1.below hb, h.2.2⟩

theorem RB.new (r : R) (ho : Owns W lo A d C zs) (hlo : lo ≤ W.heap.size) : RB (W.alloc (.cells #[.int .i64 r.e, .int .i64 r.q, .int .i64 r.k, .string r.id, .int .i64 r.n, .slice A d C] 43)) W.heap.size lo r A d C zs :=
  ⟨BoxN.new _ _ _, ho.below ((Below.refl _ _).alloc (Nat.le_refl _) _), fun q e => (ho.lt q e).2, hlo⟩

theorem RB.grown {x : Option Nat} (h : RB W b lo r A d C zs) (hg : W.grownBy W' x) (hx : ∀ q, x = some q → q < lo ∨ b < q) : RB W' b lo r A d C zs := by
  refine ⟨h.1.grown hg (fun e => by have := hx _ e; have := h.2.2.2; omega), h.2.1.grown hg (fun q e e2 => ?_), h.2.2⟩
  have h1 := hx q e
  have h2 := (h.2.1.lt q e2).1
  have h3 := h.2.2.1 q e2
  omega

theorem RB.marked {zs' : List Int} (h : RB W b lo r A d C zs) (ho : Owns W' lo A d C zs') (hg : W.grownBy W' (A.map (·.block))) : RB W' b lo r A d C zs' :=
  ⟨h.1.grown hg (fun e => by have := h.2.2.1 _ e; omega), ho, h.2.2⟩
end

end Go.Proofs.YtikefigacggohaeDoor

namespace Go.Proofs.YtikefigacggohaeDoor
open Go.RowKit
set_option linter.unusedVariables false

theorem owns_lowV {w : World} {base lo n cap : Nat} {a : Option Addr} {zs : List Int} (h : Owns w base a n cap zs) (hl : lo ≤ base) : Owns w lo a n cap zs := ⟨own_low h.1 hl, h.2⟩

def RV (w W : World) (b : Nat) (e q k : Int) (id : ByteArray) (n : Int) (A : Option Addr) (d C : Nat) (zs : List Int) : Prop :=
  BoxN W b 43 [.int .i64 e, .int .i64 q, .int .i64 k, .string id, .int .i64 n, .slice A d C] ∧ BoxN W w.heap.size 43 [.int .i64 0, .int .i64 0, .int .i64 0, .string ⟨#[]⟩, .int .i64 0, .slice none 0 0] ∧ Owns W (w.heap.size + 1) A d C zs ∧ (∀ q, A.map (·.block) = some q → q ≠ b) ∧ w.heap.size < b

/-- Some record of few bytes, its bytes in memory of its own. -/
def DrawnR (base : Nat) (v : Value) (w' : World) : Prop := ∃ (r : R) (A : Option Addr) (C : Nat), v = .agg #[.int .i64 r.e, .int .i64 r.q, .int .i64 r.k, .string r.id, .int .i64 r.n, .slice A r.zs.length C] ∧ Owns w' base A r.zs.length C r.zs ∧ r.id.size ≤ 9 ∧ r.zs.length ≤ 25

section
variable {w W W' : World} {b : Nat} {e q k : Int} {id : ByteArray} {n : Int} {A : Option Addr} {d C : Nat} {zs : List Int}

theorem RV.grown (h : RV w W b e q k id n A d C zs) {r : Option Nat} (hg : W.grownBy W' r) (hr : ∀ q, r = some q → q < w.heap.size) : RV w W' b e q k id n A d C zs := by
  obtain ⟨h1, h2, h3, h4, h5⟩ := h
  exact ⟨h1.grown hg (fun e => by have := hr _ e; omega), h2.grown hg (fun e => by have := hr _ e; omega), h3.grown hg (fun q e e2 => by have := hr q e; have := (h3.lt q e2).1; omega), h4, h5⟩

theorem RV.new (hq : BoxN W w.heap.size 43 [.int .i64 0, .int .i64 0, .int .i64 0, .string ⟨#[]⟩, .int .i64 0, .slice none 0 0]) (e q k : Int) (id : ByteArray) (n : Int) : RV w (W.alloc (.cells #[.int .i64 e, .int .i64 q, .int .i64 k, .string id, .int .i64 n, .slice none 0 0] 43)) W.heap.size e q k id n none 0 0 [] :=
  ⟨BoxN.new _ _ _, hq.alloc _, ⟨⟨rfl, .inl ⟨rfl, rfl⟩⟩, by simp⟩, by simp, hq.lt⟩

/-- Its number is set. -/
theorem RV.setN (h : RV w W b e q k id n A d C zs) (m : Int) : RV w (W.setCell ⟨b, 4, none⟩ (.int .i64 m)) b e q k id m A d C zs := by
  obtain ⟨h1, h2, h3, h4, h5⟩ := h
  exact ⟨h1.set 4 _, h2.other (by omega) _, owns_set h3 (fun e => h4 b e rfl), h4, h5⟩

theorem RV.setE (h : RV w W b e q k id n A d C zs) (m : Int) : RV w (W.setCell ⟨b, 0, none⟩ (.int .i64 m)) b m q k id n A d C zs := by
  obtain ⟨h1, h2, h3, h4, h5⟩ := h
  exact ⟨h1.set 0 _, h2.other (by omega) _, owns_set h3 (fun e => h4 b e rfl), h4, h5⟩

theorem RV.setQ (h : RV w W b e q k id n A d C zs) (m : Int) : RV w (W.setCell ⟨b, 1, none⟩ (.int .i64 m)) b e m k id n A d C zs := by
  obtain ⟨h1, h2, h3, h4, h5⟩ := h
  exact ⟨h1.set 1 _, h2.other (by omega) _, owns_set h3 (fun e => h4 b e rfl), h4, h5⟩

theorem RV.setK (h : RV w W b e q k id n A d C zs) (m : Int) : RV w (W.setCell ⟨b, 2, none⟩ (.int .i64 m)) b e q m id n A d C zs := by
  obtain ⟨h1, h2, h3, h4, h5⟩ := h
  exact ⟨h1.set 2 _, h2.other (by omega) _, owns_set h3 (fun e => h4 b e rfl), h4, h5⟩

theorem RV.setI (h : RV w W b e q k id n A d C zs) (m : ByteArray) : RV w (W.setCell ⟨b, 3, none⟩ (.string m)) b e q k m n A d C zs := by
  obtain ⟨h1, h2, h3, h4, h5⟩ := h
  exact ⟨h1.set 3 _, h2.other (by omega) _, owns_set h3 (fun e => h4 b e rfl), h4, h5⟩

/-- Its bytes are set. -/
theorem RV.setD (h : RV w W b e q k id n A d C zs) {A' : Option Addr} {d' C' : Nat} {zs' : List Int} {lo : Nat} (ho : Owns W lo A' d' C' zs') (hlo : b < lo) : RV w (W.setCell ⟨b, 5, none⟩ (.slice A' d' C')) b e q k id n A' d' C' zs' := by
  obtain ⟨h1, h2, h3, h4, h5⟩ := h
  have hne : ∀ x, A'.map (·.block) = some x → x ≠ b := fun x hx => by have := (ho.lt x hx).1; omega
  exact ⟨h1.set 5 _, h2.other (by omega) _, owns_lowV (owns_set ho (fun e => hne b e rfl)) (by omega), hne, h5⟩

theorem RV.done (h : RV w W b e q k id n A d C zs) (hi : id.size ≤ 9) (hd : d ≤ 25) : DrawnR w.heap.size (.agg #[.int .i64 e, .int .i64 q, .int .i64 k, .string id, .int .i64 n, .slice A d C]) ((((((W.setCell ⟨w.heap.size, 0, none⟩ (.int .i64 e)).setCell ⟨w.heap.size, 1, none⟩ (.int .i64 q)).setCell ⟨w.heap.size, 2, none⟩ (.int .i64 k)).setCell ⟨w.heap.size, 3, none⟩ (.string id)).setCell ⟨w.heap.size, 4, none⟩ (.int .i64 n)).setCell ⟨w.heap.size, 5, none⟩ (.slice A d C)) := by
  obtain ⟨h1, h2, h3, h4, h5⟩ := h
  have hl := h3.seg.1
  have hA : A.map (·.block) ≠ some w.heap.size := fun e => by have := (h3.lt _ e).1; omega
  refine ⟨⟨e, q, k, id, n, zs⟩, A, C, by dsimp only; rw [hl], ?_, hi, by dsimp only; omega⟩
  dsimp only
  rw [hl]
  exact owns_lowV (owns_set (owns_set (owns_set (owns_set (owns_set (owns_set h3 hA) hA) hA) hA) hA) hA) (by omega)
end

end Go.Proofs.YtikefigacggohaeDoor

namespace Go.Proofs.YtikefigacggohaeDoor
open Go.RowKit
set_option linter.unusedVariables false

theorem cell_of_strs {w : World} {g : Nat} {L : List ByteArray} (h : w.heap[g]? = some (.cells (L.map Value.string).toArray 9 (0, 0))) (k : Nat) (hk : k < L.length) : w.cell? ⟨g, k, none⟩ = some (.string (L[k]'hk)) := by
  rw [cell_of_row w g k _ 9 (0, 0) h]
  simp [hk]

set_option maxRecDepth 10000 in
set_option maxHeartbeats 400000 in
theorem l1Str_any (B c : Nat) (a : Option Addr) (len cap : Nat) (zs : List Int) (g n cp : Nat) (L : List ByteArray) (w : World) (hcur : Cur w B c a len cap zs) (hl : len ≤ 1099511627776)
    (hL : w.heap[g]? = some (.cells (L.map Value.string).toArray 9 (0, 0))) (hgc : g ≠ c) (hn : L.length = n) (h1 : 1 ≤ n) (h2 : n ≤ 256) :
    Calls Tryd.prog 45 #[.pointer (some ⟨c, 0, none⟩), .slice (some ⟨g, 0, none⟩) n cp] w fun e w' => ∃ v : ByteArray, e = .returned (.string v) ∧ v ∈ L ∧ Cur w' B c a len cap zs ∧ w.grownBy w' (some c) := by
  have HC : Hid _ := hcur
  have HL : Hid _ := hL
  have HN : Hid (L.length = n) := hn
  clear hcur hL hn
  have hi1 : (1 : Int) ≤ (n : Int) := by omega
  have hi2 : (n : Int) ≤ 1000000 := by omega
  have hglt : g < w.heap.size := by
    by_cases hk : g < w.heap.size
    · exact hk
    · have := HL.out; rw [Array.getElem?_eq_none (by omega)] at this; cases this
  go_enter Tryd.func45, Tryd.ntmps45
  go_wp2_with fail
  refine (l1Below_any B c a len cap zs _ _ HC.out hl hi1 hi2).mono ?_
  rintro e w1 ⟨x, rfl, hx0, hx1, hc1, hg1⟩
  obtain ⟨k, rfl⟩ := Int.eq_ofNat_of_zero_le hx0
  have HC1 : Hid _ := hc1
  have HG1 : Hid _ := hg1
  have hkl : k < L.length := by have := HN.out; omega
  obtain ⟨v, hv⟩ : ∃ v, L[k] = v := ⟨_, rfl⟩
  have hcell : w1.cell? ⟨g, k, none⟩ = some (.string v) := by
    rw [← hv]
    refine cell_of_strs ?_ k hkl
    rw [hg1.block g hglt (fun e => hgc (Option.some.inj e))]
    exact HL.out
  have HV : Hid (v ∈ L) := by
    show v ∈ L
    rw [← hv]
    exact List.getElem_mem hkl
  clear hc1 hg1 hv
  go_wp2_with fail
  go_ret
  exact ⟨v, rfl, HV.out, HC1.out, HG1.out⟩

end Go.Proofs.YtikefigacggohaeDoor
