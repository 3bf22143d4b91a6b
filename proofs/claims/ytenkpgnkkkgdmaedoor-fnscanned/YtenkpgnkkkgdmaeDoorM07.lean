/- Records: what is right, the bytes of one, and which one a text is; no program in it. A disk in a variable of a draw's whose sectors are put; no program in it but its table of types. A variable of any number of cells: no program in it. What GetRec answers of a text; no program in it. A record in a variable of a draw's; no program in it but its table of types. -/
import Derived.Test.YtenkpgnkkkgdmaeDoorM01
import Derived.Test.YtenkpgnkkkgdmaeDoorM06
import Derived.Test.YtenkpgnkkkgdmaeDoorM06
import Derived.Test.YtenkpgnkkkgdmaeDoorM04
namespace Go.Proofs.YtenkpgnkkkgdmaeDoor
open Go.RowKit
set_option linter.unusedVariables false

/-- The bytes of a text. -/
def txI (s : ByteArray) : List Int := s.data.toList.map fun b => (b.toNat : Int)

/-- The text of bytes. -/
def txU (zs : List Int) : ByteArray := ⟨(zs.map fun z => UInt8.ofNat z.toNat).toArray⟩

theorem txI_len (s : ByteArray) : (txI s).length = s.size := by simp [txI]

theorem txI_range (s : ByteArray) : ∀ x ∈ txI s, 0 ≤ x ∧ x ≤ 255 := by
  intro x hx
  obtain ⟨b, _, rfl⟩ := List.mem_map.1 hx
  have := b.toNat_lt
  omega

theorem txU_size (zs : List Int) : (txU zs).size = zs.length := by simp [txU, ByteArray.size]

theorem txU_txI (s : ByteArray) : txU (txI s) = s := by
  have h : (txI s).map (fun z => UInt8.ofNat z.toNat) = s.data.toList := by
    rw [txI, List.map_map]
    conv => rhs; rw [← List.map_id s.data.toList]
    refine List.map_congr_left fun b _ => ?_
    simp
  rw [txU, h]

theorem txI_txU (zs : List Int) (h : ∀ z ∈ zs, 0 ≤ z ∧ z ≤ 255) : txI (txU zs) = zs := by
  rw [txI, txU]
  simp only [List.map_map]
  conv => rhs; rw [← List.map_id zs]
  refine List.map_congr_left fun z hz => ?_
  have := h z hz
  simp
  omega

theorem txI_inj {s t : ByteArray} (h : txI s = txI t) : s = t := by rw [← txU_txI s, h, txU_txI]

/-- A record. -/
structure R where
  e : Int
  q : Int
  k : Int
  id : ByteArray
  n : Int
  zs : List Int

/-- Whether the number and so many bytes of data fit the kind. -/
def kindB (k n : Int) (d : Nat) : Bool :=
  if k = 1 then decide (0 ≤ n ∧ n ≤ 1000000000) && decide (d = 0)
  else if k = 2 then decide (0 ≤ n ∧ n ≤ 1000000000) && decide (1 ≤ d ∧ d ≤ 24)
  else if k = 3 ∨ k = 4 then decide (n = 0) && decide (d = 0) else false

/-- Whether a record is right. -/
def okRec (e q k : Int) (id : ByteArray) (n : Int) (d : Nat) : Bool :=
  (decide (0 ≤ e ∧ e ≤ 10000) && decide (0 ≤ q ∧ q ≤ 199) && idB id.data.toList) && kindB k n d

def R.ok (r : R) : Bool := okRec r.e r.q r.k r.id r.n r.zs.length

theorem okRec_iff {e q k : Int} {id : ByteArray} {n : Int} {d : Nat} (h : okRec e q k id n d = true) : (0 ≤ e ∧ e ≤ 10000) ∧ (0 ≤ q ∧ q ≤ 199) ∧ (1 ≤ k ∧ k ≤ 4) ∧ (1 ≤ id.size ∧ id.size ≤ 8) ∧ (0 ≤ n ∧ n ≤ 1000000000) ∧ d ≤ 24 := by
  simp only [okRec, idB, Bool.and_eq_true, decide_eq_true_eq, Array.length_toList] at h
  obtain ⟨⟨⟨h1, h2⟩, h3⟩, h4⟩ := h
  have hk : (1 ≤ k ∧ k ≤ 4) ∧ (0 ≤ n ∧ n ≤ 1000000000) ∧ d ≤ 24 := by
    unfold kindB at h4
    split at h4
    · simp only [Bool.and_eq_true, decide_eq_true_eq] at h4
      omega
    · split at h4
      · simp only [Bool.and_eq_true, decide_eq_true_eq] at h4
        omega
      · split at h4
        · simp only [Bool.and_eq_true, decide_eq_true_eq] at h4
          omega
        · cases h4
  exact ⟨h1, h2, hk.1, h3.2, hk.2.1, hk.2.2⟩

/-- The bytes of a record ahead of its sum. -/
def headR (e q k : Nat) (id : ByteArray) : List Int := pbl e 3 3 ++ pbl q 2 2 ++ pbl k 1 1 ++ pbl id.size 1 1 ++ txI id
def recB (e q k : Nat) (id : ByteArray) (n : Nat) (zs : List Int) : List Int := headR e q k id ++ pbl n 4 4 ++ pbl zs.length 1 1 ++ zs

def R.body (r : R) : List Int := recB r.e.toNat r.q.toNat r.k.toNat r.id r.n.toNat r.zs

/-- The bytes of a record. -/
def sumB (l : List Int) : List Int := l ++ pbl (crcL l ^^^ 4294967295) 4 4
def R.put (r : R) : List Int := sumB r.body

/-- The text of a record; nothing of what is not right. -/
def putT (e q k : Int) (id : ByteArray) (n : Int) (zs : List Int) : ByteArray := if okRec e q k id n zs.length then txU (sumB (recB e.toNat q.toNat k.toNat id n.toNat zs)) else ⟨#[]⟩

theorem headR_len (e q k : Nat) (id : ByteArray) : (headR e q k id).length = 7 + id.size := by
  simp only [headR, List.length_append, pbl_len, txI_len]

theorem recB_len (e q k : Nat) (id : ByteArray) (n : Nat) (zs : List Int) : (recB e q k id n zs).length = 12 + id.size + zs.length := by
  simp only [recB, List.length_append, pbl_len, headR_len]
  omega

theorem put_len (r : R) : r.put.length = 16 + r.id.size + r.zs.length := by
  rw [R.put, sumB, List.length_append, pbl_len, R.body, recB_len]
  omega

theorem headR_range (e q k : Nat) (id : ByteArray) : ∀ x ∈ headR e q k id, 0 ≤ x ∧ x ≤ 255 := by
  intro x hx
  simp only [headR, List.mem_append] at hx
  rcases hx with (((h | h) | h) | h) | h
  · exact pbl_range _ _ _ x h
  · exact pbl_range _ _ _ x h
  · exact pbl_range _ _ _ x h
  · exact pbl_range _ _ _ x h
  · exact txI_range _ x h

theorem recB_range (e q k : Nat) (id : ByteArray) (n : Nat) (zs : List Int) (h : ∀ x ∈ zs, 0 ≤ x ∧ x ≤ 255) : ∀ x ∈ recB e q k id n zs, 0 ≤ x ∧ x ≤ 255 := by
  intro x hx
  simp only [recB, List.mem_append] at hx
  rcases hx with ((h1 | h1) | h1) | h1
  · exact headR_range _ _ _ _ x h1
  · exact pbl_range _ _ _ x h1
  · exact pbl_range _ _ _ x h1
  · exact h x h1

theorem sumB_range (l : List Int) (h : ∀ x ∈ l, 0 ≤ x ∧ x ≤ 255) : ∀ x ∈ sumB l, 0 ≤ x ∧ x ≤ 255 := by
  intro x hx
  rcases List.mem_append.1 hx with h1 | h1
  · exact h x h1
  · exact pbl_range _ _ _ x h1

theorem gbOneR (M : Nat) (h : M ≤ 255) : gb (pbl M 1 1) = (M : Int) := by
  simp [gb, pbl, byteOf]; omega
theorem gbTwoR (M : Nat) (h : M ≤ 65535) : gb (pbl M 2 2) = (M : Int) := by
  simp [gb, pbl, byteOf, List.range, List.range.loop]; omega
theorem gbThreeR (M : Nat) (h : M ≤ 16777215) : gb (pbl M 3 3) = (M : Int) := by
  simp [gb, pbl, byteOf, List.range, List.range.loop]; omega
theorem gbFourR (M : Nat) (h : M ≤ 4294967295) : gb (pbl M 4 4) = (M : Int) := by
  simp [gb, pbl, byteOf, List.range, List.range.loop]; omega

/-- How long the name is, of a record's bytes. -/
def idN (l : List Int) : Nat := (gb ((l.drop 6).take 1)).toNat
def dataN (l : List Int) : Nat := (gb ((l.drop (11 + idN l)).take 1)).toNat

/-- The record that bytes tell. -/
def parseR (l : List Int) : R :=
  ⟨gb (l.take 3), gb ((l.drop 3).take 2), gb ((l.drop 5).take 1), txU ((l.drop 7).take (idN l)), gb ((l.drop (7 + idN l)).take 4), (l.drop (12 + idN l)).take (dataN l)⟩

theorem drop_app (a b : List Int) (k : Nat) (h : a.length = k) : (a ++ b).drop k = b := by subst h; simp
theorem take_app (a b : List Int) (k : Nat) (h : a.length = k) : (a ++ b).take k = a := by subst h; simp

/-- What is told of a record's bytes, whatever stands behind them. -/
theorem parse_back (e q k : Nat) (id : ByteArray) (n : Nat) (zs t : List Int) (he : e ≤ 16777215) (hq : q ≤ 65535) (hk : k ≤ 255) (hi : id.size ≤ 255) (hn : n ≤ 4294967295) (hz : zs.length ≤ 255) :
    idN (recB e q k id n zs ++ t) = id.size ∧ dataN (recB e q k id n zs ++ t) = zs.length ∧ parseR (recB e q k id n zs ++ t) = ⟨e, q, k, id, n, zs⟩ := by
  have d0 : recB e q k id n zs ++ t = pbl e 3 3 ++ (pbl q 2 2 ++ (pbl k 1 1 ++ (pbl id.size 1 1 ++ (txI id ++ (pbl n 4 4 ++ (pbl zs.length 1 1 ++ (zs ++ t))))))) := by simp [recB, headR]
  generalize recB e q k id n zs ++ t = l at *
  have d3 : l.drop 3 = pbl q 2 2 ++ (pbl k 1 1 ++ (pbl id.size 1 1 ++ (txI id ++ (pbl n 4 4 ++ (pbl zs.length 1 1 ++ (zs ++ t)))))) := by rw [d0, drop_app _ _ 3 (pbl_len _ _ _)]
  have d5 : l.drop 5 = pbl k 1 1 ++ (pbl id.size 1 1 ++ (txI id ++ (pbl n 4 4 ++ (pbl zs.length 1 1 ++ (zs ++ t))))) := by rw [show 5 = 3 + 2 from rfl, ← List.drop_drop, d3, drop_app _ _ 2 (pbl_len _ _ _)]
  have d6 : l.drop 6 = pbl id.size 1 1 ++ (txI id ++ (pbl n 4 4 ++ (pbl zs.length 1 1 ++ (zs ++ t)))) := by rw [show 6 = 5 + 1 from rfl, ← List.drop_drop, d5, drop_app _ _ 1 (pbl_len _ _ _)]
  have d7 : l.drop 7 = txI id ++ (pbl n 4 4 ++ (pbl zs.length 1 1 ++ (zs ++ t))) := by rw [show 7 = 6 + 1 from rfl, ← List.drop_drop, d6, drop_app _ _ 1 (pbl_len _ _ _)]
  have dn : l.drop (7 + id.size) = pbl n 4 4 ++ (pbl zs.length 1 1 ++ (zs ++ t)) := by rw [← List.drop_drop, d7, drop_app _ _ id.size (txI_len _)]
  have dd : l.drop (11 + id.size) = pbl zs.length 1 1 ++ (zs ++ t) := by rw [show 11 + id.size = 7 + id.size + 4 by omega, ← List.drop_drop, dn, drop_app _ _ 4 (pbl_len _ _ _)]
  have dz : l.drop (12 + id.size) = zs ++ t := by rw [show 12 + id.size = 11 + id.size + 1 by omega, ← List.drop_drop, dd, drop_app _ _ 1 (pbl_len _ _ _)]
  have hid : idN l = id.size := by rw [idN, d6, take_app _ _ 1 (pbl_len _ _ _), gbOneR _ hi, Int.toNat_natCast]
  have hdn : dataN l = zs.length := by rw [dataN, hid, dd, take_app _ _ 1 (pbl_len _ _ _), gbOneR _ hz, Int.toNat_natCast]
  refine ⟨hid, hdn, ?_⟩
  rw [parseR, hid, hdn, d3, d5, d7, dn, dz, take_app _ _ 2 (pbl_len _ _ _), take_app _ _ 1 (pbl_len _ _ _), take_app _ _ id.size (txI_len _), take_app _ _ 4 (pbl_len _ _ _), take_app _ _ zs.length rfl, txU_txI, gbTwoR _ hq, gbOneR _ hk, gbFourR _ hn, d0, take_app _ _ 3 (pbl_len _ _ _), gbThreeR _ he]

theorem parse_put {r : R} (h : r.ok = true) (t : List Int) : idN (r.body ++ t) = r.id.size ∧ dataN (r.body ++ t) = r.zs.length ∧ parseR (r.body ++ t) = r := by
  obtain ⟨he, hq, hk, hi, hn, hd⟩ := okRec_iff h
  obtain ⟨e, q, k, id, n, zs⟩ := r
  dsimp only at he hq hk hi hn hd
  obtain ⟨E, rfl⟩ := Int.eq_ofNat_of_zero_le he.1
  obtain ⟨Q, rfl⟩ := Int.eq_ofNat_of_zero_le hq.1
  obtain ⟨K, rfl⟩ := Int.eq_ofNat_of_zero_le (show 0 ≤ k by omega)
  obtain ⟨M, rfl⟩ := Int.eq_ofNat_of_zero_le hn.1
  have hb := parse_back E Q K id M zs t (by omega) (by omega) (by omega) (by omega) (by omega) (by omega)
  simpa [R.body] using hb

/-- Which record a text is. -/
def recOf (s : ByteArray) : Option R := if (parseR (txI s)).ok = true ∧ (parseR (txI s)).put = txI s then some (parseR (txI s)) else none

theorem recOf_iff {s : ByteArray} {r : R} : recOf s = some r ↔ r.ok = true ∧ r.put = txI s := by
  constructor
  · intro h
    rw [recOf] at h
    split at h
    · injection h with h
      subst h
      assumption
    · cases h
  · rintro ⟨h1, h2⟩
    have hp : parseR (txI s) = r := by rw [← h2]; exact (parse_put h1 _).2.2
    rw [recOf, hp, if_pos ⟨h1, h2⟩]

theorem recOf_none {s : ByteArray} (h : ¬ ((parseR (txI s)).ok = true ∧ (parseR (txI s)).put = txI s)) : recOf s = none := if_neg h

theorem recOf_parse {s : ByteArray} (h1 : (parseR (txI s)).ok = true) (h2 : (parseR (txI s)).put = txI s) : recOf s = some (parseR (txI s)) := if_pos ⟨h1, h2⟩

/-- A text that is a record is long enough. -/
theorem recOf_len {s : ByteArray} (h : recOf s ≠ none) : 16 ≤ s.size ∧ 16 + idN (txI s) + dataN (txI s) = s.size ∧ s.size ≤ 48 := by
  cases hr : recOf s with
  | none => exact absurd hr h
  | some r =>
    obtain ⟨h1, h2⟩ := recOf_iff.1 hr
    obtain ⟨p1, p2, _⟩ := parse_put h1 (pbl (crcL r.body ^^^ 4294967295) 4 4)
    have hl := put_len r
    obtain ⟨_, _, _, hi, _, hd⟩ := okRec_iff h1
    rw [show r.body ++ pbl (crcL r.body ^^^ 4294967295) 4 4 = r.put from rfl, h2] at p1 p2
    rw [h2, txI_len] at hl
    omega

end Go.Proofs.YtenkpgnkkkgdmaeDoor

namespace Go.Proofs.YtenkpgnkkkgdmaeDoor
open Go.RowKit
set_option linter.unusedVariables false

theorem putT_sz (e q k : Int) (id : ByteArray) (n : Int) (zs : List Int) : (putT e q k id n zs).size ≤ 48 := by
  rw [putT]
  split
  · rename_i h
    obtain ⟨_, _, _, hi, _, hd⟩ := okRec_iff h
    rw [txU_size]
    have := put_len ⟨e, q, k, id, n, zs⟩
    rw [R.put, R.body] at this
    dsimp only at this
    omega
  · exact Nat.zero_le _

theorem ownSt_at {W : World} {base n C : Nat} {A : Option Addr} {X : List ByteArray} (h : OwnSt W base (.slice A n C) n X) (hn : 0 < n) : ∃ g, A = some ⟨g, 0, none⟩ := by
  rcases h.1.2 with ⟨_, h0⟩ | ⟨g, cap', cur, he, _⟩
  · omega
  · injection he with e1 _ _
    exact ⟨g, e1⟩

/-- A sector in Now is put. -/
theorem DV.putN {w W : World} {b n n' C C' : Nat} {A' : Option Addr} {X Y : List ByteArray} {g : Nat} (h : DV w W b (some ⟨g, 0, none⟩) n C A' n' C' X Y) (k : Nat) (x : ByteArray) (hx : x.size ≤ maxLen) : DV w (W.setCell ⟨g, k, none⟩ (.string x)) b (some ⟨g, 0, none⟩) n C A' n' C' (X.set k x) Y := by
  obtain ⟨h1, h2, h3, h4, h5, h6, h7⟩ := h
  have hg := h5 g rfl
  have hlt := (h3.lt g rfl).1
  have n1 : blkOf (.slice A' n' C') ≠ some g := fun e => by rw [blkOf_sV] at e; exact hg.2 e
  refine ⟨h1.other (fun e => hg.1 e.symm) _, h2.other (by omega) _, ?_, h4.setCell n1 _, h5, h6, h7⟩
  refine ⟨?_, fun y hy => ?_⟩
  · rw [← scells_set]
    exact (h3.1.stored k (.string x)).1
  · rcases List.mem_or_eq_of_mem_set hy with h | rfl
    · exact h3.2 y h
    · exact hx

/-- A sector in Sure is put. -/
theorem DV.putS {w W : World} {b n n' C C' : Nat} {A : Option Addr} {X Y : List ByteArray} {g : Nat} (h : DV w W b A n C (some ⟨g, 0, none⟩) n' C' X Y) (k : Nat) (x : ByteArray) (hx : x.size ≤ maxLen) : DV w (W.setCell ⟨g, k, none⟩ (.string x)) b A n C (some ⟨g, 0, none⟩) n' C' X (Y.set k x) := by
  obtain ⟨h1, h2, h3, h4, h5, h6, h7⟩ := h
  have hg := h6 g rfl
  have hlt := (h4.lt g rfl).1
  have n1 : blkOf (.slice A n C) ≠ some g := fun e => by rw [blkOf_sV] at e; exact (h5 g e).2 rfl
  refine ⟨h1.other (fun e => hg e.symm) _, h2.other (by omega) _, h3.setCell n1 _, ?_, h5, h6, h7⟩
  refine ⟨?_, fun y hy => ?_⟩
  · rw [← scells_set]
    exact (h4.1.stored k (.string x)).1
  · rcases List.mem_or_eq_of_mem_set hy with h | rfl
    · exact h4.2 y h
    · exact hx

/-- A cell of a row of texts, and that it is not frozen. -/
theorem ownSt_cell {W : World} {base g n C : Nat} {X : List ByteArray} (h : OwnSt W base (.slice (some ⟨g, 0, none⟩) n C) n X) {k : Nat} (hk : k < n) : ∃ x, X[k]? = some x ∧ W.cell? ⟨g, k, none⟩ = some (.string x) ∧ W.frozen? ⟨g, k, none⟩ = false := by
  have hl : X.length = n := h.len
  have hk' : k < X.length := by omega
  refine ⟨X[k], List.getElem?_eq_getElem hk', ?_, h.1.frozenAt _⟩
  rw [h.1.cellAt _ (by omega)]
  simp [scells, List.getElem?_eq_getElem hk']

/-- Some disk of five sectors of short texts, in memory of its own. -/
def Drawn5 (base : Nat) (v : Value) (w' : World) : Prop := ∃ X Y, AnsD base X Y v w' ∧ X.length = 5 ∧ Y.length = 5 ∧ ∀ x ∈ X, x.size ≤ 48

end Go.Proofs.YtenkpgnkkkgdmaeDoor

namespace Go.Proofs.YtenkpgnkkkgdmaeDoor
open Go.RowKit
set_option linter.unusedVariables false

/-- The block holds a variable of these cells. -/
def BoxN (W : World) (b : Nat) (t : TypeId) (vs : List Value) : Prop := W.heap[b]? = some (.cells vs.toArray t (0, 0))

section
variable {W W' : World} {b : Nat} {t : TypeId} {vs : List Value}

theorem BoxN.lt (h : BoxN W b t vs) : b < W.heap.size := (Array.getElem?_eq_some_iff.1 h).1
theorem BoxN.stays (h : BoxN W b t vs) (hb : Below W.heap.size W W') : BoxN W' b t vs := (hb.block b h.lt).trans h
theorem BoxN.alloc (h : BoxN W b t vs) (o : Obj) : BoxN (W.alloc o) b t vs := h.stays ((Below.refl _ _).alloc (Nat.le_refl _) _)
theorem BoxN.new (W : World) (t : TypeId) (vs : List Value) : BoxN (W.alloc (.cells vs.toArray t)) W.heap.size t vs := heap_alloc_new W _

theorem BoxN.cell (h : BoxN W b t vs) (i : Nat) {v : Value} (hv : vs[i]? = some v) : W.cell? ⟨b, i, none⟩ = some v := by
  have h' : W.heap[b]? = some (.cells vs.toArray t (0, 0)) := h
  rw [cell_of_row _ _ _ _ _ _ h', ← hv]
  simp

theorem BoxN.frozen (h : BoxN W b t vs) (i : Nat) : W.frozen? ⟨b, i, none⟩ = false := by simp [World.frozen?, show W.heap[b]? = _ from h]
theorem BoxN.grown {r : Option Nat} (h : BoxN W b t vs) (hg : W.grownBy W' r) (hr : r ≠ some b) : BoxN W' b t vs := (hg.block b h.lt (Ne.symm hr)).trans h

theorem BoxN.set (h : BoxN W b t vs) (i : Nat) (v : Value) : BoxN (W.setCell ⟨b, i, none⟩ v) b t (vs.set i v) := by
  show (W.setCell ⟨b, i, none⟩ v).heap[b]? = _
  rw [setCell_eq_setRow W b i _ t (0, 0) _ h, setRow_heap W b _ _ t (0, 0) h]
  simp

theorem BoxN.other {b' k : Nat} (h : BoxN W b t vs) (hne : b ≠ b') (v : Value) : BoxN (W.setCell ⟨b', k, none⟩ v) b t vs := (set_block_ne W b b' k v hne).trans h
end

end Go.Proofs.YtenkpgnkkkgdmaeDoor

namespace Go.Proofs.YtenkpgnkkkgdmaeDoor
open Go.RowKit
set_option linter.unusedVariables false

/-- What GetRec answers. -/
def GotR (base : Nat) (s : ByteArray) (v : Value) (w' : World) : Prop :=
  (recOf s = none ∧ v = .tuple #[.agg #[.int .i64 0, .int .i64 0, .int .i64 0, .string ⟨#[]⟩, .int .i64 0, .slice none 0 0], .bool false]) ∨
  ∃ r A C, recOf s = some r ∧ v = .tuple #[.agg #[.int .i64 r.e, .int .i64 r.q, .int .i64 r.k, .string r.id, .int .i64 r.n, .slice A r.zs.length C], .bool true] ∧ Owns w' base A r.zs.length C r.zs

/-- The record that is answered, and whether there is one. -/
def gotV (s : ByteArray) : R × Bool := match recOf s with
  | none => (⟨0, 0, 0, ⟨#[]⟩, 0, []⟩, false)
  | some r => (r, true)

theorem GotR.one {base : Nat} {s : ByteArray} {v : Value} {w' : World} (h : GotR base s v w') : ∃ A C, v = .tuple #[.agg #[.int .i64 (gotV s).1.e, .int .i64 (gotV s).1.q, .int .i64 (gotV s).1.k, .string (gotV s).1.id, .int .i64 (gotV s).1.n, .slice A (gotV s).1.zs.length C], .bool (gotV s).2] ∧ Owns w' base A (gotV s).1.zs.length C (gotV s).1.zs := by
  rcases h with ⟨h1, rfl⟩ | ⟨r, A, C, h1, rfl, ho⟩
  · rw [gotV, h1]
    exact ⟨none, 0, rfl, ⟨⟨rfl, .inl ⟨rfl, rfl⟩⟩, by simp⟩⟩
  · rw [gotV, h1]
    exact ⟨A, C, rfl, ho⟩

theorem gotV_len (s : ByteArray) : (gotV s).1.zs.length ≤ 24 := by
  cases h : recOf s with
  | none => rw [gotV, h]; exact Nat.zero_le _
  | some r =>
    rw [gotV, h]
    exact (okRec_iff (recOf_iff.1 h).1).2.2.2.2.2

/-- A record in a variable of the law's, its bytes in memory of its own from lo on and ahead of it. -/
def RB (W : World) (b lo : Nat) (r : R) (A : Option Addr) (d C : Nat) (zs : List Int) : Prop :=
  BoxN W b 43 [.int .i64 r.e, .int .i64 r.q, .int .i64 r.k, .string r.id, .int .i64 r.n, .slice A d C] ∧ Owns W lo A d C zs ∧ (∀ q, A.map (·.block) = some q → q < b) ∧ lo ≤ b

section
variable {W W' : World} {b lo d C : Nat} {r : R} {A : Option Addr} {zs : List Int}

theorem RB.stays (h : RB W b lo r A d C zs) (hb : Below W.heap.size W W') : RB W' b lo r A d C zs := ⟨h.1.stays hb, h.2.1.below hb, h.2.2⟩

theorem RB.new (r : R) (ho : Owns W lo A d C zs) (hlo : lo ≤ W.heap.size) : RB (W.alloc (.cells #[.int .i64 r.e, .int .i64 r.q, .int .i64 r.k, .string r.id, .int .i64 r.n, .slice A d C] 43)) W.heap.size lo r A d C zs :=
  ⟨BoxN.new _ _ _, ho.below ((Below.refl _ _).alloc (Nat.le_refl _) _), fun q e => (ho.lt q e).2, hlo⟩

theorem RB.grown {x : Option Nat} (h : RB W b lo r A d C zs) (hg : W.grownBy W' x) (hx : ∀ q, x = some q → q < lo ∨ b < q) : RB W' b lo r A d C zs := by
  refine ⟨h.1.grown hg (fun e => by have := hx _ e; have := h.2.2.2; omega), h.2.1.grown hg (fun q e e2 => ?_), h.2.2⟩
  have h1 := hx q e
  have h2 := (h.2.1.lt q e2).1
  have h3 := h.2.2.1 q e2
  omega

theorem RB.marked {zs' : List Int} (h : RB W b lo r A d C zs) (ho : Owns W' lo A d C zs') (hg : W.grownBy W' (A.map (·.block))) : RB W' b lo r A d C zs' :=
  ⟨h.1.grown hg (fun e => by have := h.2.2.1 _ e; omega), ho, h.2.2⟩
end

end Go.Proofs.YtenkpgnkkkgdmaeDoor

namespace Go.Proofs.YtenkpgnkkkgdmaeDoor
open Go.RowKit
set_option linter.unusedVariables false

theorem owns_lowV {w : World} {base lo n cap : Nat} {a : Option Addr} {zs : List Int} (h : Owns w base a n cap zs) (hl : lo ≤ base) : Owns w lo a n cap zs := ⟨own_low h.1 hl, h.2⟩

def RV (w W : World) (b : Nat) (e q k : Int) (id : ByteArray) (n : Int) (A : Option Addr) (d C : Nat) (zs : List Int) : Prop :=
  BoxN W b 43 [.int .i64 e, .int .i64 q, .int .i64 k, .string id, .int .i64 n, .slice A d C] ∧ BoxN W w.heap.size 43 [.int .i64 0, .int .i64 0, .int .i64 0, .string ⟨#[]⟩, .int .i64 0, .slice none 0 0] ∧ Owns W (w.heap.size + 1) A d C zs ∧ (∀ q, A.map (·.block) = some q → q ≠ b) ∧ w.heap.size < b

/-- Some record of few bytes, its bytes in memory of its own. -/
def DrawnR (base : Nat) (v : Value) (w' : World) : Prop := ∃ (r : R) (A : Option Addr) (C : Nat), v = .agg #[.int .i64 r.e, .int .i64 r.q, .int .i64 r.k, .string r.id, .int .i64 r.n, .slice A r.zs.length C] ∧ Owns w' base A r.zs.length C r.zs ∧ r.id.size ≤ 9 ∧ r.zs.length ≤ 25

section
variable {w W W' : World} {b : Nat} {e q k : Int} {id : ByteArray} {n : Int} {A : Option Addr} {d C : Nat} {zs : List Int}

theorem RV.grown (h : RV w W b e q k id n A d C zs) {r : Option Nat} (hg : W.grownBy W' r) (hr : ∀ q, r = some q → q < w.heap.size) : RV w W' b e q k id n A d C zs := by
  obtain ⟨h1, h2, h3, h4, h5⟩ := h
  exact ⟨h1.grown hg (fun e => by have := hr _ e; omega), h2.grown hg (fun e => by have := hr _ e; omega), h3.grown hg (fun q e e2 => by have := hr q e; have := (h3.lt q e2).1; omega), h4, h5⟩

theorem RV.new (hq : BoxN W w.heap.size 43 [.int .i64 0, .int .i64 0, .int .i64 0, .string ⟨#[]⟩, .int .i64 0, .slice none 0 0]) (e q k : Int) (id : ByteArray) (n : Int) : RV w (W.alloc (.cells #[.int .i64 e, .int .i64 q, .int .i64 k, .string id, .int .i64 n, .slice none 0 0] 43)) W.heap.size e q k id n none 0 0 [] :=
  ⟨BoxN.new _ _ _, hq.alloc _, ⟨⟨rfl, .inl ⟨rfl, rfl⟩⟩, by simp⟩, by simp, hq.lt⟩

/-- Its number is set. -/
theorem RV.setN (h : RV w W b e q k id n A d C zs) (m : Int) : RV w (W.setCell ⟨b, 4, none⟩ (.int .i64 m)) b e q k id m A d C zs := by
  obtain ⟨h1, h2, h3, h4, h5⟩ := h
  exact ⟨h1.set 4 _, h2.other (by omega) _, owns_set h3 (fun e => h4 b e rfl), h4, h5⟩

theorem RV.setE (h : RV w W b e q k id n A d C zs) (m : Int) : RV w (W.setCell ⟨b, 0, none⟩ (.int .i64 m)) b m q k id n A d C zs := by
  obtain ⟨h1, h2, h3, h4, h5⟩ := h
  exact ⟨h1.set 0 _, h2.other (by omega) _, owns_set h3 (fun e => h4 b e rfl), h4, h5⟩

theorem RV.setQ (h : RV w W b e q k id n A d C zs) (m : Int) : RV w (W.setCell ⟨b, 1, none⟩ (.int .i64 m)) b e m k id n A d C zs := by
  obtain ⟨h1, h2, h3, h4, h5⟩ := h
  exact ⟨h1.set 1 _, h2.other (by omega) _, owns_set h3 (fun e => h4 b e rfl), h4, h5⟩

theorem RV.setK (h : RV w W b e q k id n A d C zs) (m : Int) : RV w (W.setCell ⟨b, 2, none⟩ (.int .i64 m)) b e q m id n A d C zs := by
  obtain ⟨h1, h2, h3, h4, h5⟩ := h
  exact ⟨h1.set 2 _, h2.other (by omega) _, owns_set h3 (fun e => h4 b e rfl), h4, h5⟩

theorem RV.setI (h : RV w W b e q k id n A d C zs) (m : ByteArray) : RV w (W.setCell ⟨b, 3, none⟩ (.string m)) b e q k m n A d C zs := by
  obtain ⟨h1, h2, h3, h4, h5⟩ := h
  exact ⟨h1.set 3 _, h2.other (by omega) _, owns_set h3 (fun e => h4 b e rfl), h4, h5⟩

/-- Its bytes are set. -/
theorem RV.setD (h : RV w W b e q k id n A d C zs) {A' : Option Addr} {d' C' : Nat} {zs' : List Int} {lo : Nat} (ho : Owns W lo A' d' C' zs') (hlo : b < lo) : RV w (W.setCell ⟨b, 5, none⟩ (.slice A' d' C')) b e q k id n A' d' C' zs' := by
  obtain ⟨h1, h2, h3, h4, h5⟩ := h
  have hne : ∀ x, A'.map (·.block) = some x → x ≠ b := fun x hx => by have := (ho.lt x hx).1; omega
  exact ⟨h1.set 5 _, h2.other (by omega) _, owns_lowV (owns_set ho (fun e => hne b e rfl)) (by omega), hne, h5⟩

theorem RV.done (h : RV w W b e q k id n A d C zs) (hi : id.size ≤ 9) (hd : d ≤ 25) : DrawnR w.heap.size (.agg #[.int .i64 e, .int .i64 q, .int .i64 k, .string id, .int .i64 n, .slice A d C]) ((((((W.setCell ⟨w.heap.size, 0, none⟩ (.int .i64 e)).setCell ⟨w.heap.size, 1, none⟩ (.int .i64 q)).setCell ⟨w.heap.size, 2, none⟩ (.int .i64 k)).setCell ⟨w.heap.size, 3, none⟩ (.string id)).setCell ⟨w.heap.size, 4, none⟩ (.int .i64 n)).setCell ⟨w.heap.size, 5, none⟩ (.slice A d C)) := by
  obtain ⟨h1, h2, h3, h4, h5⟩ := h
  have hl := h3.seg.1
  have hA : A.map (·.block) ≠ some w.heap.size := fun e => by have := (h3.lt _ e).1; omega
  refine ⟨⟨e, q, k, id, n, zs⟩, A, C, by dsimp only; rw [hl], ?_, hi, by dsimp only; omega⟩
  dsimp only
  rw [hl]
  exact owns_lowV (owns_set (owns_set (owns_set (owns_set (owns_set (owns_set h3 hA) hA) hA) hA) hA) hA) (by omega)
end

end Go.Proofs.YtenkpgnkkkgdmaeDoor
