/- Requests and answers that are right: no statement of the program; no condition. Records: what is right, the bytes of one, and which one a text is; no program in it. What records make, one behind the other; no program in it. The greatest epoch of texts; the records ahead that follow each other; no program in it. What the records ahead are: of their sectors, with their numbers, in the order of their epochs, none above the top; no program in it. -/
import Derived.Test.YtogopmngbjkcjafDoorM01
import Derived.Test.YtogopmngbjkcjafDoorM07
import Derived.Test.YtogopmngbjkcjafDoorM04
namespace Go.Proofs.YtogopmngbjkcjafDoor
open Go.RowKit
set_option linter.unusedVariables false

/-- A byte that may stand in an upload's name. -/
def idC (b : UInt8) : Bool := (decide (97 ≤ b.toNat) && decide (b.toNat ≤ 122)) || (decide (48 ≤ b.toNat) && decide (b.toNat ≤ 57))

/-- Whether a text is an upload's name. -/
def idB (s : List UInt8) : Bool := s.all idC && decide (1 ≤ s.length ∧ s.length ≤ 8)

/-- The greatest number of an op; -1: it has none. -/
def mostR (op : Int) : Int := if op = 1 ∨ op = 3 then 1000000000 else if op = 4 then 4294967295 else -1

/-- Whether a request is right. -/
def reqB (op : Int) (s : List UInt8) (n : Int) : Bool := decide (1 ≤ op ∧ op ≤ 6) && idB s && (if mostR op < 0 then n == 0 else decide (0 ≤ n ∧ n ≤ mostR op))

/-- Whether an answer is right. -/
def respB (st off : Int) : Bool := decide (100 ≤ st ∧ st ≤ 599) && decide (-1 ≤ off ∧ off ≤ 1000000000)

theorem idB_long {s : List UInt8} (h : ¬ (1 ≤ s.length ∧ s.length ≤ 8)) : idB s = false := by rw [idB, decide_eq_false h, Bool.and_false]

theorem idB_bad {s : List UInt8} {k : Nat} (hk : k < s.length) (h : idC s[k] = false) : idB s = false := by
  rw [idB, Bool.and_eq_false_iff]
  refine .inl ?_
  rw [List.all_eq_false]
  exact ⟨s[k], List.getElem_mem hk, by simp [h]⟩

theorem idB_good {s : List UInt8} (h : ∀ k (hk : k < s.length), idC s[k] = true) : idB s = decide (1 ≤ s.length ∧ s.length ≤ 8) := by
  have : s.all idC = true := by
    rw [List.all_eq_true]
    intro x hx
    obtain ⟨k, hk, rfl⟩ := List.mem_iff_getElem.1 hx
    exact h k hk
  rw [idB, this, Bool.true_and]

end Go.Proofs.YtogopmngbjkcjafDoor

namespace Go.Proofs.YtogopmngbjkcjafDoor
open Go.RowKit
set_option linter.unusedVariables false

/-- The bytes of a text. -/
def txI (s : ByteArray) : List Int := s.data.toList.map fun b => (b.toNat : Int)

/-- The text of bytes. -/
def txU (zs : List Int) : ByteArray := ⟨(zs.map fun z => UInt8.ofNat z.toNat).toArray⟩

theorem txI_len (s : ByteArray) : (txI s).length = s.size := by simp [txI]

theorem txI_range (s : ByteArray) : ∀ x ∈ txI s, 0 ≤ x ∧ x ≤ 255 := by
  intro x hx
  obtain ⟨b, _, rfl⟩ := List.mem_map.1 hx
  have := b.toNat_lt
  omega

theorem txU_size (zs : List Int) : (txU zs).size = zs.length := by simp [txU, ByteArray.size]

theorem txU_txI (s : ByteArray) : txU (txI s) = s := by
  have h : (txI s).map (fun z => UInt8.ofNat z.toNat) = s.data.toList := by
    rw [txI, List.map_map]
    conv => rhs; rw [← List.map_id s.data.toList]
    refine List.map_congr_left fun b _ => ?_
    simp
  rw [txU, h]

theorem txI_txU (zs : List Int) (h : ∀ z ∈ zs, 0 ≤ z ∧ z ≤ 255) : txI (txU zs) = zs := by
  rw [txI, txU]
  simp only [List.map_map]
  conv => rhs; rw [← List.map_id zs]
  refine List.map_congr_left fun z hz => ?_
  have := h z hz
  simp
  omega

theorem txI_inj {s t : ByteArray} (h : txI s = txI t) : s = t := by rw [← txU_txI s, h, txU_txI]

/-- A record. -/
structure R where
  e : Int
  q : Int
  k : Int
  id : ByteArray
  n : Int
  zs : List Int

/-- Whether the number and so many bytes of data fit the kind. -/
def kindB (k n : Int) (d : Nat) : Bool :=
  if k = 1 then decide (0 ≤ n ∧ n ≤ 1000000000) && decide (d = 0)
  else if k = 2 then decide (0 ≤ n ∧ n ≤ 1000000000) && decide (1 ≤ d ∧ d ≤ 24)
  else if k = 3 ∨ k = 4 then decide (n = 0) && decide (d = 0) else false

/-- Whether a record is right. -/
def okRec (e q k : Int) (id : ByteArray) (n : Int) (d : Nat) : Bool :=
  (decide (0 ≤ e ∧ e ≤ 10000) && decide (0 ≤ q ∧ q ≤ 199) && idB id.data.toList) && kindB k n d

def R.ok (r : R) : Bool := okRec r.e r.q r.k r.id r.n r.zs.length

theorem okRec_iff {e q k : Int} {id : ByteArray} {n : Int} {d : Nat} (h : okRec e q k id n d = true) : (0 ≤ e ∧ e ≤ 10000) ∧ (0 ≤ q ∧ q ≤ 199) ∧ (1 ≤ k ∧ k ≤ 4) ∧ (1 ≤ id.size ∧ id.size ≤ 8) ∧ (0 ≤ n ∧ n ≤ 1000000000) ∧ d ≤ 24 := by
  simp only [okRec, idB, Bool.and_eq_true, decide_eq_true_eq, Array.length_toList] at h
  obtain ⟨⟨⟨h1, h2⟩, h3⟩, h4⟩ := h
  have hk : (1 ≤ k ∧ k ≤ 4) ∧ (0 ≤ n ∧ n ≤ 1000000000) ∧ d ≤ 24 := by
    unfold kindB at h4
    split at h4
    · simp only [Bool.and_eq_true, decide_eq_true_eq] at h4
      omega
    · split at h4
      · simp only [Bool.and_eq_true, decide_eq_true_eq] at h4
        omega
      · split at h4
        · simp only [Bool.and_eq_true, decide_eq_true_eq] at h4
          omega
        · cases h4
  exact ⟨h1, h2, hk.1, h3.2, hk.2.1, hk.2.2⟩

/-- The bytes of a record ahead of its sum. -/
def headR (e q k : Nat) (id : ByteArray) : List Int := pbl e 3 3 ++ pbl q 2 2 ++ pbl k 1 1 ++ pbl id.size 1 1 ++ txI id
def recB (e q k : Nat) (id : ByteArray) (n : Nat) (zs : List Int) : List Int := headR e q k id ++ pbl n 4 4 ++ pbl zs.length 1 1 ++ zs

def R.body (r : R) : List Int := recB r.e.toNat r.q.toNat r.k.toNat r.id r.n.toNat r.zs

/-- The bytes of a record. -/
def sumB (l : List Int) : List Int := l ++ pbl (crcL l ^^^ 4294967295) 4 4
def R.put (r : R) : List Int := sumB r.body

/-- The text of a record; nothing of what is not right. -/
def putT (e q k : Int) (id : ByteArray) (n : Int) (zs : List Int) : ByteArray := if okRec e q k id n zs.length then txU (sumB (recB e.toNat q.toNat k.toNat id n.toNat zs)) else ⟨#[]⟩

theorem headR_len (e q k : Nat) (id : ByteArray) : (headR e q k id).length = 7 + id.size := by
  simp only [headR, List.length_append, pbl_len, txI_len]

theorem recB_len (e q k : Nat) (id : ByteArray) (n : Nat) (zs : List Int) : (recB e q k id n zs).length = 12 + id.size + zs.length := by
  simp only [recB, List.length_append, pbl_len, headR_len]
  omega

theorem put_len (r : R) : r.put.length = 16 + r.id.size + r.zs.length := by
  rw [R.put, sumB, List.length_append, pbl_len, R.body, recB_len]
  omega

theorem headR_range (e q k : Nat) (id : ByteArray) : ∀ x ∈ headR e q k id, 0 ≤ x ∧ x ≤ 255 := by
  intro x hx
  simp only [headR, List.mem_append] at hx
  rcases hx with (((h | h) | h) | h) | h
  · exact pbl_range _ _ _ x h
  · exact pbl_range _ _ _ x h
  · exact pbl_range _ _ _ x h
  · exact pbl_range _ _ _ x h
  · exact txI_range _ x h

theorem recB_range (e q k : Nat) (id : ByteArray) (n : Nat) (zs : List Int) (h : ∀ x ∈ zs, 0 ≤ x ∧ x ≤ 255) : ∀ x ∈ recB e q k id n zs, 0 ≤ x ∧ x ≤ 255 := by
  intro x hx
  simp only [recB, List.mem_append] at hx
  rcases hx with ((h1 | h1) | h1) | h1
  · exact headR_range _ _ _ _ x h1
  · exact pbl_range _ _ _ x h1
  · exact pbl_range _ _ _ x h1
  · exact h x h1

theorem sumB_range (l : List Int) (h : ∀ x ∈ l, 0 ≤ x ∧ x ≤ 255) : ∀ x ∈ sumB l, 0 ≤ x ∧ x ≤ 255 := by
  intro x hx
  rcases List.mem_append.1 hx with h1 | h1
  · exact h x h1
  · exact pbl_range _ _ _ x h1

theorem gbOneR (M : Nat) (h : M ≤ 255) : gb (pbl M 1 1) = (M : Int) := by
  simp [gb, pbl, byteOf]; omega
theorem gbTwoR (M : Nat) (h : M ≤ 65535) : gb (pbl M 2 2) = (M : Int) := by
  simp [gb, pbl, byteOf, List.range, List.range.loop]; omega
theorem gbThreeR (M : Nat) (h : M ≤ 16777215) : gb (pbl M 3 3) = (M : Int) := by
  simp [gb, pbl, byteOf, List.range, List.range.loop]; omega
theorem gbFourR (M : Nat) (h : M ≤ 4294967295) : gb (pbl M 4 4) = (M : Int) := by
  simp [gb, pbl, byteOf, List.range, List.range.loop]; omega

/-- How long the name is, of a record's bytes. -/
def idN (l : List Int) : Nat := (gb ((l.drop 6).take 1)).toNat
def dataN (l : List Int) : Nat := (gb ((l.drop (11 + idN l)).take 1)).toNat

/-- The record that bytes tell. -/
def parseR (l : List Int) : R :=
  ⟨gb (l.take 3), gb ((l.drop 3).take 2), gb ((l.drop 5).take 1), txU ((l.drop 7).take (idN l)), gb ((l.drop (7 + idN l)).take 4), (l.drop (12 + idN l)).take (dataN l)⟩

theorem drop_app (a b : List Int) (k : Nat) (h : a.length = k) : (a ++ b).drop k = b := by subst h; simp
theorem take_app (a b : List Int) (k : Nat) (h : a.length = k) : (a ++ b).take k = a := by subst h; simp

/-- What is told of a record's bytes, whatever stands behind them. -/
theorem parse_back (e q k : Nat) (id : ByteArray) (n : Nat) (zs t : List Int) (he : e ≤ 16777215) (hq : q ≤ 65535) (hk : k ≤ 255) (hi : id.size ≤ 255) (hn : n ≤ 4294967295) (hz : zs.length ≤ 255) :
    idN (recB e q k id n zs ++ t) = id.size ∧ dataN (recB e q k id n zs ++ t) = zs.length ∧ parseR (recB e q k id n zs ++ t) = ⟨e, q, k, id, n, zs⟩ := by
  have d0 : recB e q k id n zs ++ t = pbl e 3 3 ++ (pbl q 2 2 ++ (pbl k 1 1 ++ (pbl id.size 1 1 ++ (txI id ++ (pbl n 4 4 ++ (pbl zs.length 1 1 ++ (zs ++ t))))))) := by simp [recB, headR]
  generalize recB e q k id n zs ++ t = l at *
  have d3 : l.drop 3 = pbl q 2 2 ++ (pbl k 1 1 ++ (pbl id.size 1 1 ++ (txI id ++ (pbl n 4 4 ++ (pbl zs.length 1 1 ++ (zs ++ t)))))) := by rw [d0, drop_app _ _ 3 (pbl_len _ _ _)]
  have d5 : l.drop 5 = pbl k 1 1 ++ (pbl id.size 1 1 ++ (txI id ++ (pbl n 4 4 ++ (pbl zs.length 1 1 ++ (zs ++ t))))) := by rw [show 5 = 3 + 2 from rfl, ← List.drop_drop, d3, drop_app _ _ 2 (pbl_len _ _ _)]
  have d6 : l.drop 6 = pbl id.size 1 1 ++ (txI id ++ (pbl n 4 4 ++ (pbl zs.length 1 1 ++ (zs ++ t)))) := by rw [show 6 = 5 + 1 from rfl, ← List.drop_drop, d5, drop_app _ _ 1 (pbl_len _ _ _)]
  have d7 : l.drop 7 = txI id ++ (pbl n 4 4 ++ (pbl zs.length 1 1 ++ (zs ++ t))) := by rw [show 7 = 6 + 1 from rfl, ← List.drop_drop, d6, drop_app _ _ 1 (pbl_len _ _ _)]
  have dn : l.drop (7 + id.size) = pbl n 4 4 ++ (pbl zs.length 1 1 ++ (zs ++ t)) := by rw [← List.drop_drop, d7, drop_app _ _ id.size (txI_len _)]
  have dd : l.drop (11 + id.size) = pbl zs.length 1 1 ++ (zs ++ t) := by rw [show 11 + id.size = 7 + id.size + 4 by omega, ← List.drop_drop, dn, drop_app _ _ 4 (pbl_len _ _ _)]
  have dz : l.drop (12 + id.size) = zs ++ t := by rw [show 12 + id.size = 11 + id.size + 1 by omega, ← List.drop_drop, dd, drop_app _ _ 1 (pbl_len _ _ _)]
  have hid : idN l = id.size := by rw [idN, d6, take_app _ _ 1 (pbl_len _ _ _), gbOneR _ hi, Int.toNat_natCast]
  have hdn : dataN l = zs.length := by rw [dataN, hid, dd, take_app _ _ 1 (pbl_len _ _ _), gbOneR _ hz, Int.toNat_natCast]
  refine ⟨hid, hdn, ?_⟩
  rw [parseR, hid, hdn, d3, d5, d7, dn, dz, take_app _ _ 2 (pbl_len _ _ _), take_app _ _ 1 (pbl_len _ _ _), take_app _ _ id.size (txI_len _), take_app _ _ 4 (pbl_len _ _ _), take_app _ _ zs.length rfl, txU_txI, gbTwoR _ hq, gbOneR _ hk, gbFourR _ hn, d0, take_app _ _ 3 (pbl_len _ _ _), gbThreeR _ he]

theorem parse_put {r : R} (h : r.ok = true) (t : List Int) : idN (r.body ++ t) = r.id.size ∧ dataN (r.body ++ t) = r.zs.length ∧ parseR (r.body ++ t) = r := by
  obtain ⟨he, hq, hk, hi, hn, hd⟩ := okRec_iff h
  obtain ⟨e, q, k, id, n, zs⟩ := r
  dsimp only at he hq hk hi hn hd
  obtain ⟨E, rfl⟩ := Int.eq_ofNat_of_zero_le he.1
  obtain ⟨Q, rfl⟩ := Int.eq_ofNat_of_zero_le hq.1
  obtain ⟨K, rfl⟩ := Int.eq_ofNat_of_zero_le (show 0 ≤ k by omega)
  obtain ⟨M, rfl⟩ := Int.eq_ofNat_of_zero_le hn.1
  have hb := parse_back E Q K id M zs t (by omega) (by omega) (by omega) (by omega) (by omega) (by omega)
  simpa [R.body] using hb

/-- Which record a text is. -/
def recOf (s : ByteArray) : Option R := if (parseR (txI s)).ok = true ∧ (parseR (txI s)).put = txI s then some (parseR (txI s)) else none

theorem recOf_iff {s : ByteArray} {r : R} : recOf s = some r ↔ r.ok = true ∧ r.put = txI s := by
  constructor
  · intro h
    rw [recOf] at h
    split at h
    · injection h with h
      subst h
      assumption
    · cases h
  · rintro ⟨h1, h2⟩
    have hp : parseR (txI s) = r := by rw [← h2]; exact (parse_put h1 _).2.2
    rw [recOf, hp, if_pos ⟨h1, h2⟩]

theorem recOf_none {s : ByteArray} (h : ¬ ((parseR (txI s)).ok = true ∧ (parseR (txI s)).put = txI s)) : recOf s = none := if_neg h

theorem recOf_parse {s : ByteArray} (h1 : (parseR (txI s)).ok = true) (h2 : (parseR (txI s)).put = txI s) : recOf s = some (parseR (txI s)) := if_pos ⟨h1, h2⟩

/-- A text that is a record is long enough. -/
theorem recOf_len {s : ByteArray} (h : recOf s ≠ none) : 16 ≤ s.size ∧ 16 + idN (txI s) + dataN (txI s) = s.size ∧ s.size ≤ 48 := by
  cases hr : recOf s with
  | none => exact absurd hr h
  | some r =>
    obtain ⟨h1, h2⟩ := recOf_iff.1 hr
    obtain ⟨p1, p2, _⟩ := parse_put h1 (pbl (crcL r.body ^^^ 4294967295) 4 4)
    have hl := put_len r
    obtain ⟨_, _, _, hi, _, hd⟩ := okRec_iff h1
    rw [show r.body ++ pbl (crcL r.body ^^^ 4294967295) 4 4 = r.put from rfl, h2] at p1 p2
    rw [h2, txI_len] at hl
    omega

end Go.Proofs.YtogopmngbjkcjafDoor

namespace Go.Proofs.YtogopmngbjkcjafDoor
open Go.RowKit
set_option linter.unusedVariables false

/-- Where the upload with a name stands. -/
def atU (l : List U) (id : ByteArray) : Option Nat := l.findIdx? fun u => decide (u.id = id)

def atI (l : List U) (id : ByteArray) : Int := match atU l id with
  | some k => (k : Int)
  | none => -1

theorem atU_none {l : List U} {id : ByteArray} (h : ∀ k (hk : k < l.length), (l[k]).id ≠ id) : atU l id = none := by
  rw [atU, List.findIdx?_eq_none_iff]
  intro x hx
  obtain ⟨k, hk, rfl⟩ := List.getElem_of_mem hx
  exact decide_eq_false (h k hk)

theorem atU_some {l : List U} {id : ByteArray} {k : Nat} (hk : k < l.length) (h1 : (l[k]).id = id) (h2 : ∀ j (hj : j < l.length), j < k → (l[j]).id ≠ id) : atU l id = some k := by
  rw [atU, List.findIdx?_eq_some_iff_getElem]
  exact ⟨hk, decide_eq_true h1, fun j hj => by simpa using h2 j (by omega) hj⟩

theorem atU_is {l : List U} {id : ByteArray} {k : Nat} (h : atU l id = some k) : ∃ hk : k < l.length, (l[k]).id = id := by
  rw [atU, List.findIdx?_eq_some_iff_getElem] at h
  obtain ⟨hk, h1, _⟩ := h
  exact ⟨hk, by simpa using h1⟩

/-- Whether a name is above another. -/
def gtS (x y : ByteArray) : Bool := !(Op.bytesLess x.toList y.toList || x.toList == y.toList)

/-- Where one with a name is put: behind the last of the first k that is not above it. -/
def insK (l : List U) (id : ByteArray) : Nat → Nat
  | 0 => 0
  | k + 1 => match l[k]? with
    | some u => if gtS u.id id = true then insK l id k else k + 1
    | none => k + 1

theorem insK_le (l : List U) (id : ByteArray) : ∀ k, insK l id k ≤ k := by
  intro k
  induction k with
  | zero => exact Nat.le_refl _
  | succ k ih =>
    rw [insK]
    split
    · split
      · omega
      · exact Nat.le_refl _
    · exact Nat.le_refl _

theorem insK_down {l : List U} {id : ByteArray} {k : Nat} {u : U} (h : l[k]? = some u) (hlt : gtS u.id id = true) : insK l id (k + 1) = insK l id k := by rw [insK, h]; exact if_pos hlt
theorem insK_stop {l : List U} {id : ByteArray} {k : Nat} {u : U} (h : l[k]? = some u) (hlt : ¬ gtS u.id id = true) : insK l id (k + 1) = k + 1 := by rw [insK, h]; exact if_neg hlt

/-- An upload is put in order. -/
def makeU (l : List U) (u : U) : List U := l.take (insK l u.id l.length) ++ u :: l.drop (insK l u.id l.length)

/-- What a record makes; none: it does not fit. -/
def oneU (l : List U) (r : R) : Option (List U) :=
  if r.k = 1 then (if atU l r.id = none ∧ l.length < 10 then some (makeU l ⟨r.id, r.n, [], false⟩) else none)
  else match atU l r.id with
    | none => none
    | some k => match l[k]? with
      | none => none
      | some u =>
        if r.k = 2 then (if u.done = true ∨ r.n ≠ (u.zs.length : Int) ∨ u.want < r.n + (r.zs.length : Int) then none else some (l.set k { u with zs := u.zs ++ r.zs }))
        else if r.k = 3 then (if u.done = true ∨ (u.zs.length : Int) ≠ u.want then none else some (l.set k { u with done := true }))
        else if r.k = 4 then some (l.eraseIdx k) else none

/-- What records make. -/
def foldU (rs : List R) : Option (List U) := rs.foldlM oneU []

theorem foldU_step (rs : List R) (k : Nat) (r : R) (h : rs[k]? = some r) : foldU (rs.take (k + 1)) = (foldU (rs.take k)).bind fun l => oneU l r := by
  rw [List.take_add_one, h, foldU, foldU, List.foldlM_append]
  simp [List.foldlM]

/-- Once nothing fits, nothing does. -/
theorem foldU_stop (rs : List R) (k : Nat) (h : foldU (rs.take k) = none) : foldU rs = none := by
  have e : rs = rs.take k ++ rs.drop k := (List.take_append_drop k rs).symm
  rw [e, foldU, List.foldlM_append]
  rw [foldU] at h
  rw [h]
  rfl

theorem makeU_len (l : List U) (u : U) : (makeU l u).length = l.length + 1 := by
  have := insK_le l u.id l.length
  simp [makeU]
  omega

theorem oneU_len {l l' : List U} {r : R} (h : oneU l r = some l') : l'.length ≤ l.length ∨ l'.length ≤ 10 := by
  rw [oneU] at h
  split at h
  · split at h
    · rename_i hc
      injection h with h
      rw [← h, makeU_len]
      omega
    · cases h
  · split at h
    · cases h
    · split at h
      · cases h
      · split at h
        · split at h
          · cases h
          · injection h with h; rw [← h]; left; simp
        · split at h
          · split at h
            · cases h
            · injection h with h; rw [← h]; left; simp
          · split at h
            · injection h with h; rw [← h]; left; exact List.length_eraseIdx_le ..
            · cases h

end Go.Proofs.YtogopmngbjkcjafDoor

namespace Go.Proofs.YtogopmngbjkcjafDoor
open Go.RowKit
set_option linter.unusedVariables false

def topStep (m : Int) (s : ByteArray) : Int := match recOf s with
  | none => m
  | some r => if m < r.e then r.e else m

/-- The greatest epoch. -/
def topE (l : List ByteArray) : Int := l.foldl topStep (-1)

theorem topE_step (l : List ByteArray) (k : Nat) (x : ByteArray) (h : l[k]? = some x) : topE (l.take (k + 1)) = topStep (topE (l.take k)) x := by
  rw [List.take_add_one, h]
  simp [topE, List.foldl_append]

theorem topStep_none {m : Int} {s : ByteArray} (h : recOf s = none) : topStep m s = m := by rw [topStep, h]
theorem topStep_some {m : Int} {s : ByteArray} {r : R} (h : recOf s = some r) : topStep m s = if m < r.e then r.e else m := by rw [topStep, h]

/-- Whether the record of a text follows. -/
def nextR (i : Nat) (last : Int) (s : ByteArray) : Option R := match recOf s with
  | none => none
  | some r => if r.q = (i : Int) ∧ last ≤ r.e then some r else none

/-- The records from the i-th on, behind one with this epoch. -/
def scanFrom (i : Nat) (last : Int) : List ByteArray → List R
  | [] => []
  | s :: l => match nextR i last s with
    | none => []
    | some r => r :: scanFrom (i + 1) r.e l

def scanR (l : List ByteArray) : List R := scanFrom 0 0 l

theorem nextR_ok {i : Nat} {last : Int} {s : ByteArray} {r : R} (h : nextR i last s = some r) : recOf s = some r ∧ r.q = (i : Int) ∧ last ≤ r.e := by
  rw [nextR] at h
  split at h
  · cases h
  · rename_i r' hr
    split at h
    · rename_i hc
      injection h with h
      subst h
      exact ⟨hr, hc⟩
    · cases h

end Go.Proofs.YtogopmngbjkcjafDoor

namespace Go.Proofs.YtogopmngbjkcjafDoor
open Go.RowKit
set_option linter.unusedVariables false

theorem scanFrom_at (l : List ByteArray) : ∀ (i : Nat) (last : Int) (k : Nat) (r : R), (scanFrom i last l)[k]? = some r → (∃ x, l[k]? = some x ∧ recOf x = some r) ∧ r.q = ((i + k : Nat) : Int) ∧ last ≤ r.e := by
  induction l with
  | nil => intro i last k r h; simp [scanFrom] at h
  | cons s l ih =>
    intro i last k r h
    rw [scanFrom] at h
    cases hn : nextR i last s with
    | none => rw [hn] at h; simp at h
    | some r0 =>
      rw [hn] at h
      obtain ⟨h1, h2, h3⟩ := nextR_ok hn
      cases k with
      | zero =>
        simp at h
        subst h
        exact ⟨⟨s, rfl, h1⟩, by simpa using h2, h3⟩
      | succ k =>
        simp at h
        obtain ⟨⟨x, hx, hr⟩, hq, he⟩ := ih (i + 1) r0.e k r h
        exact ⟨⟨x, by simpa using hx, hr⟩, by rw [hq]; congr 1; omega, by omega⟩

theorem scanFrom_len (l : List ByteArray) : ∀ (i : Nat) (last : Int), (scanFrom i last l).length ≤ l.length := by
  induction l with
  | nil => intro i last; exact Nat.le_refl _
  | cons s l ih =>
    intro i last
    rw [scanFrom]
    cases hn : nextR i last s with
    | none => exact Nat.zero_le _
    | some r0 =>
      have := ih (i + 1) r0.e
      simp only [List.length_cons]
      omega

theorem scanFrom_up (l : List ByteArray) : ∀ (i : Nat) (last : Int) (k : Nat) (r r' : R), (scanFrom i last l)[k]? = some r → (scanFrom i last l)[k + 1]? = some r' → r.e ≤ r'.e := by
  induction l with
  | nil => intro i last k r r' h; simp [scanFrom] at h
  | cons s l ih =>
    intro i last k r r' h h'
    rw [scanFrom] at h h'
    cases hn : nextR i last s with
    | none => rw [hn] at h; simp at h
    | some r0 =>
      rw [hn] at h h'
      cases k with
      | zero =>
        simp at h h'
        subst h
        exact (scanFrom_at l (i + 1) r0.e 0 r' (by simpa using h')).2.2
      | succ k =>
        simp at h h'
        exact ih (i + 1) r0.e k r r' h h'

theorem topStep_ge (m : Int) (s : ByteArray) : m ≤ topStep m s := by
  cases h : recOf s with
  | none => rw [topStep_none h]; exact Int.le_refl _
  | some r => rw [topStep_some h]; split <;> omega

theorem top_ge (l : List ByteArray) : ∀ m : Int, m ≤ l.foldl topStep m := by
  induction l with
  | nil => intro m; exact Int.le_refl _
  | cons s l ih => intro m; exact Int.le_trans (topStep_ge m s) (ih _)

theorem top_in (l : List ByteArray) : ∀ (m : Int) (k : Nat) (x : ByteArray) (r : R), l[k]? = some x → recOf x = some r → r.e ≤ l.foldl topStep m := by
  induction l with
  | nil => intro m k x r h; simp at h
  | cons s l ih =>
    intro m k x r h hr
    cases k with
    | zero =>
      simp at h
      subst h
      refine Int.le_trans ?_ (top_ge l _)
      rw [topStep_some hr]
      split <;> omega
    | succ k => exact ih _ k x r (by simpa using h) hr

/-- One of the records ahead. -/
theorem scan_one {X : List ByteArray} {k : Nat} {r : R} (h : (scanR X)[k]? = some r) : (∃ x, X[k]? = some x ∧ recOf x = some r) ∧ r.q = (k : Int) ∧ r.e ≤ topE X := by
  obtain ⟨⟨x, hx, hr⟩, hq, _⟩ := scanFrom_at X 0 0 k r h
  exact ⟨⟨x, hx, hr⟩, by rw [hq]; congr 1; omega, top_in X (-1) k x r hx hr⟩

theorem scan_two {X : List ByteArray} {k : Nat} {r r' : R} (h : (scanR X)[k]? = some r) (h' : (scanR X)[k + 1]? = some r') : r.e ≤ r'.e := scanFrom_up X 0 0 k r r' h h'

end Go.Proofs.YtogopmngbjkcjafDoor
