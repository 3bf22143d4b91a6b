/- Plain arithmetic of the sum: one step, eight steps, a list of bytes; no program in it. Records: what is right, the bytes of one, and which one a text is; no program in it. A list of bytes as what is appended. No program in it. Rows of bytes that grow: an append as a step of a region that draws, PutBig onto a row of the call's own, a row as a text. An append of whatever may be appended, and where its row lies: where it lay, or behind all. No program in it. What the specification's l14CopyUps answers. What records make, one behind the other; no program in it. Two steps of a region that draws its order: a call that leaves the world as it was, an append onto a row of the call's own. No program in it. -/
import Derived.Test.YtpjldfpipchmjavGreatDoorM01
import Derived.Test.YtpjldfpipchmjavGreatDoorM10
import Derived.Test.YtpjldfpipchmjavGreatDoorM03
import Derived.Test.YtpjldfpipchmjavGreatDoorM02
import Derived.Deep.RegionLaw
import Derived.Laws.IdiomStrings
import Derived.Deep.CutBlock
import Derived.Laws.AppendOwn
import Derived.WalkKit
namespace Go.Proofs.YtpjldfpipchmjavGreatDoor
open Go.RowKit

def crc1 (x : Nat) : Nat := if x % 2 = 1 then (x / 2) ^^^ 2197175160 else x / 2
def crcN : Nat → Nat → Nat
  | 0, x => x
  | n + 1, x => crc1 (crcN n x)
def crcL (l : List Int) : Nat := l.foldl (fun x b => crcN 8 (x ^^^ b.toNat)) 4294967295

theorem crc1_lt (x : Nat) (h : x < 4294967296) : crc1 x < 4294967296 := by
  unfold crc1
  split
  · have : x / 2 ^^^ 2197175160 < 2 ^ 32 := Nat.xor_lt_two_pow (by omega) (by omega)
    omega
  · omega
theorem crcN_lt (n x : Nat) (h : x < 4294967296) : crcN n x < 4294967296 := by
  induction n with
  | zero => exact h
  | succ n ih => exact crc1_lt _ ih
theorem xor_lt32 (a b : Nat) (ha : a < 4294967296) (hb : b < 4294967296) : a ^^^ b < 4294967296 := by
  have : a ^^^ b < 2 ^ 32 := Nat.xor_lt_two_pow (by omega) (by omega)
  omega
theorem crcL_snoc (l : List Int) (b : Int) : crcL (l ++ [b]) = crcN 8 (crcL l ^^^ b.toNat) := by simp [crcL, List.foldl_append]
theorem crcF_lt (l : List Int) : ∀ x, x < 4294967296 → (∀ n ∈ l, 0 ≤ n ∧ n ≤ 255) → l.foldl (fun x b => crcN 8 (x ^^^ b.toNat)) x < 4294967296 := by
  induction l with
  | nil => intro x hx _; simpa using hx
  | cons b l ih =>
    intro x hx h
    have hb := h b (by simp)
    rw [List.foldl_cons]
    exact ih _ (crcN_lt _ _ (xor_lt32 _ _ hx (by omega))) (fun n hn => h n (by simp [hn]))
theorem crcL_lt (l : List Int) (h : ∀ n ∈ l, 0 ≤ n ∧ n ≤ 255) : crcL l < 4294967296 := crcF_lt l _ (by omega) h
theorem take_snoc (zs : List Int) (j : Nat) (h : j < zs.length) : zs.take (j + 1) = zs.take j ++ [zs.getD j 0] := by
  rw [List.take_add_one, List.getD_eq_getElem?_getD, List.getElem?_eq_getElem h]
  rfl

theorem u32_xor_int (a : Nat) (b : Int) (ha : a < 4294967296) (hb : 0 ≤ b) (hb2 : b < 4294967296) : bits .xor .u32 (a : Int) b = ((a ^^^ b.toNat : Nat) : Int) := by
  obtain ⟨B, rfl⟩ := Int.eq_ofNat_of_zero_le hb
  rw [Int.toNat_natCast]
  exact u32_xor_nat a B ha (by omega)
theorem i64_xor_int (a : Nat) (b : Int) (ha : a < 4294967296) (hb : 0 ≤ b) (hb2 : b < 4294967296) : bits .xor .i64 (a : Int) b = ((a ^^^ b.toNat : Nat) : Int) := by
  obtain ⟨B, rfl⟩ := Int.eq_ofNat_of_zero_le hb
  rw [Int.toNat_natCast]
  exact i64_xor_nat a B (by omega) (by omega)
theorem u32_and1 (a : Nat) (ha : a < 4294967296) : bits .and .u32 (a : Int) 1 = (a : Int) % 2 := by
  have := u32_and_nat a 1 ha (by omega)
  rw [show ((1 : Nat) : Int) = 1 from rfl] at this
  rw [this, Nat.and_one_is_mod]
  omega
theorem i64_and1 (a : Nat) (ha : a < 4294967296) : bits .and .i64 (a : Int) 1 = (a : Int) % 2 := by
  have := i64_and_nat a 1 (by omega) (by omega)
  rw [show ((1 : Nat) : Int) = 1 from rfl] at this
  rw [this, Nat.and_one_is_mod]
  omega
theorem half_cast (a : Nat) : (a : Int) / 2 = ((a / 2 : Nat) : Int) := by omega
theorem u32_turn (a : Nat) (ha : a < 4294967296) : bits .xor .u32 ((a : Int) / 2) 2197175160 = ((a / 2 ^^^ 2197175160 : Nat) : Int) := by
  rw [half_cast]
  exact u32_xor_int (a / 2) 2197175160 (by omega) (by omega) (by omega)
theorem i64_turn (a : Nat) (ha : a < 4294967296) : bits .xor .i64 ((a : Int) / 2) 2197175160 = ((a / 2 ^^^ 2197175160 : Nat) : Int) := by
  rw [half_cast]
  exact i64_xor_int (a / 2) 2197175160 (by omega) (by omega) (by omega)

theorem u32_not (a : Nat) (ha : a < 4294967296) : bits .xor .u32 IntKind.u32.max (a : Int) = ((a ^^^ 4294967295 : Nat) : Int) := by
  have e : IntKind.u32.max = ((4294967295 : Nat) : Int) := by decide
  rw [e, u32_xor_nat _ _ (by omega) ha, Nat.xor_comm]

end Go.Proofs.YtpjldfpipchmjavGreatDoor

namespace Go.Proofs.YtpjldfpipchmjavGreatDoor
open Go.RowKit
set_option linter.unusedVariables false

/-- The bytes of a text. -/
def txI (s : ByteArray) : List Int := s.data.toList.map fun b => (b.toNat : Int)

/-- The text of bytes. -/
def txU (zs : List Int) : ByteArray := ⟨(zs.map fun z => UInt8.ofNat z.toNat).toArray⟩

theorem txI_len (s : ByteArray) : (txI s).length = s.size := by simp [txI]

theorem txI_range (s : ByteArray) : ∀ x ∈ txI s, 0 ≤ x ∧ x ≤ 255 := by
  intro x hx
  obtain ⟨b, _, rfl⟩ := List.mem_map.1 hx
  have := b.toNat_lt
  omega

theorem txU_size (zs : List Int) : (txU zs).size = zs.length := by simp [txU, ByteArray.size]

theorem txU_txI (s : ByteArray) : txU (txI s) = s := by
  have h : (txI s).map (fun z => UInt8.ofNat z.toNat) = s.data.toList := by
    rw [txI, List.map_map]
    conv => rhs; rw [← List.map_id s.data.toList]
    refine List.map_congr_left fun b _ => ?_
    simp
  rw [txU, h]

theorem txI_txU (zs : List Int) (h : ∀ z ∈ zs, 0 ≤ z ∧ z ≤ 255) : txI (txU zs) = zs := by
  rw [txI, txU]
  simp only [List.map_map]
  conv => rhs; rw [← List.map_id zs]
  refine List.map_congr_left fun z hz => ?_
  have := h z hz
  simp
  omega

theorem txI_inj {s t : ByteArray} (h : txI s = txI t) : s = t := by rw [← txU_txI s, h, txU_txI]

/-- A record. -/
structure R where
  e : Int
  q : Int
  k : Int
  id : ByteArray
  n : Int
  zs : List Int

/-- Whether the number and so many bytes of data fit the kind. -/
def kindB (k n : Int) (d : Nat) : Bool :=
  if k = 1 then decide (0 ≤ n ∧ n ≤ 1000000000) && decide (d = 0)
  else if k = 2 then decide (0 ≤ n ∧ n ≤ 1000000000) && decide (1 ≤ d ∧ d ≤ 24)
  else if k = 3 ∨ k = 4 then decide (n = 0) && decide (d = 0) else false

/-- Whether a record is right. -/
def okRec (e q k : Int) (id : ByteArray) (n : Int) (d : Nat) : Bool :=
  (decide (0 ≤ e ∧ e ≤ 10000) && decide (0 ≤ q ∧ q ≤ 199) && idB id.data.toList) && kindB k n d

def R.ok (r : R) : Bool := okRec r.e r.q r.k r.id r.n r.zs.length

theorem okRec_iff {e q k : Int} {id : ByteArray} {n : Int} {d : Nat} (h : okRec e q k id n d = true) : (0 ≤ e ∧ e ≤ 10000) ∧ (0 ≤ q ∧ q ≤ 199) ∧ (1 ≤ k ∧ k ≤ 4) ∧ (1 ≤ id.size ∧ id.size ≤ 8) ∧ (0 ≤ n ∧ n ≤ 1000000000) ∧ d ≤ 24 := by
  simp only [okRec, idB, Bool.and_eq_true, decide_eq_true_eq, Array.length_toList] at h
  obtain ⟨⟨⟨h1, h2⟩, h3⟩, h4⟩ := h
  have hk : (1 ≤ k ∧ k ≤ 4) ∧ (0 ≤ n ∧ n ≤ 1000000000) ∧ d ≤ 24 := by
    unfold kindB at h4
    split at h4
    · simp only [Bool.and_eq_true, decide_eq_true_eq] at h4
      omega
    · split at h4
      · simp only [Bool.and_eq_true, decide_eq_true_eq] at h4
        omega
      · split at h4
        · simp only [Bool.and_eq_true, decide_eq_true_eq] at h4
          omega
        · cases h4
  exact ⟨h1, h2, hk.1, h3.2, hk.2.1, hk.2.2⟩

/-- The bytes of a record ahead of its sum. -/
def headR (e q k : Nat) (id : ByteArray) : List Int := pbl e 3 3 ++ pbl q 2 2 ++ pbl k 1 1 ++ pbl id.size 1 1 ++ txI id
def recB (e q k : Nat) (id : ByteArray) (n : Nat) (zs : List Int) : List Int := headR e q k id ++ pbl n 4 4 ++ pbl zs.length 1 1 ++ zs

def R.body (r : R) : List Int := recB r.e.toNat r.q.toNat r.k.toNat r.id r.n.toNat r.zs

/-- The bytes of a record. -/
def sumB (l : List Int) : List Int := l ++ pbl (crcL l ^^^ 4294967295) 4 4
def R.put (r : R) : List Int := sumB r.body

/-- The text of a record; nothing of what is not right. -/
def putT (e q k : Int) (id : ByteArray) (n : Int) (zs : List Int) : ByteArray := if okRec e q k id n zs.length then txU (sumB (recB e.toNat q.toNat k.toNat id n.toNat zs)) else ⟨#[]⟩

theorem headR_len (e q k : Nat) (id : ByteArray) : (headR e q k id).length = 7 + id.size := by
  simp only [headR, List.length_append, pbl_len, txI_len]

theorem recB_len (e q k : Nat) (id : ByteArray) (n : Nat) (zs : List Int) : (recB e q k id n zs).length = 12 + id.size + zs.length := by
  simp only [recB, List.length_append, pbl_len, headR_len]
  omega

theorem put_len (r : R) : r.put.length = 16 + r.id.size + r.zs.length := by
  rw [R.put, sumB, List.length_append, pbl_len, R.body, recB_len]
  omega

theorem headR_range (e q k : Nat) (id : ByteArray) : ∀ x ∈ headR e q k id, 0 ≤ x ∧ x ≤ 255 := by
  intro x hx
  simp only [headR, List.mem_append] at hx
  rcases hx with (((h | h) | h) | h) | h
  · exact pbl_range _ _ _ x h
  · exact pbl_range _ _ _ x h
  · exact pbl_range _ _ _ x h
  · exact pbl_range _ _ _ x h
  · exact txI_range _ x h

theorem recB_range (e q k : Nat) (id : ByteArray) (n : Nat) (zs : List Int) (h : ∀ x ∈ zs, 0 ≤ x ∧ x ≤ 255) : ∀ x ∈ recB e q k id n zs, 0 ≤ x ∧ x ≤ 255 := by
  intro x hx
  simp only [recB, List.mem_append] at hx
  rcases hx with ((h1 | h1) | h1) | h1
  · exact headR_range _ _ _ _ x h1
  · exact pbl_range _ _ _ x h1
  · exact pbl_range _ _ _ x h1
  · exact h x h1

theorem sumB_range (l : List Int) (h : ∀ x ∈ l, 0 ≤ x ∧ x ≤ 255) : ∀ x ∈ sumB l, 0 ≤ x ∧ x ≤ 255 := by
  intro x hx
  rcases List.mem_append.1 hx with h1 | h1
  · exact h x h1
  · exact pbl_range _ _ _ x h1

theorem gbOneR (M : Nat) (h : M ≤ 255) : gb (pbl M 1 1) = (M : Int) := by
  simp [gb, pbl, byteOf]; omega
theorem gbTwoR (M : Nat) (h : M ≤ 65535) : gb (pbl M 2 2) = (M : Int) := by
  simp [gb, pbl, byteOf, List.range, List.range.loop]; omega
theorem gbThreeR (M : Nat) (h : M ≤ 16777215) : gb (pbl M 3 3) = (M : Int) := by
  simp [gb, pbl, byteOf, List.range, List.range.loop]; omega
theorem gbFourR (M : Nat) (h : M ≤ 4294967295) : gb (pbl M 4 4) = (M : Int) := by
  simp [gb, pbl, byteOf, List.range, List.range.loop]; omega

/-- How long the name is, of a record's bytes. -/
def idN (l : List Int) : Nat := (gb ((l.drop 6).take 1)).toNat
def dataN (l : List Int) : Nat := (gb ((l.drop (11 + idN l)).take 1)).toNat

/-- The record that bytes tell. -/
def parseR (l : List Int) : R :=
  ⟨gb (l.take 3), gb ((l.drop 3).take 2), gb ((l.drop 5).take 1), txU ((l.drop 7).take (idN l)), gb ((l.drop (7 + idN l)).take 4), (l.drop (12 + idN l)).take (dataN l)⟩

theorem drop_app (a b : List Int) (k : Nat) (h : a.length = k) : (a ++ b).drop k = b := by subst h; simp
theorem take_app (a b : List Int) (k : Nat) (h : a.length = k) : (a ++ b).take k = a := by subst h; simp

/-- What is told of a record's bytes, whatever stands behind them. -/
theorem parse_back (e q k : Nat) (id : ByteArray) (n : Nat) (zs t : List Int) (he : e ≤ 16777215) (hq : q ≤ 65535) (hk : k ≤ 255) (hi : id.size ≤ 255) (hn : n ≤ 4294967295) (hz : zs.length ≤ 255) :
    idN (recB e q k id n zs ++ t) = id.size ∧ dataN (recB e q k id n zs ++ t) = zs.length ∧ parseR (recB e q k id n zs ++ t) = ⟨e, q, k, id, n, zs⟩ := by
  have d0 : recB e q k id n zs ++ t = pbl e 3 3 ++ (pbl q 2 2 ++ (pbl k 1 1 ++ (pbl id.size 1 1 ++ (txI id ++ (pbl n 4 4 ++ (pbl zs.length 1 1 ++ (zs ++ t))))))) := by simp [recB, headR]
  generalize recB e q k id n zs ++ t = l at *
  have d3 : l.drop 3 = pbl q 2 2 ++ (pbl k 1 1 ++ (pbl id.size 1 1 ++ (txI id ++ (pbl n 4 4 ++ (pbl zs.length 1 1 ++ (zs ++ t)))))) := by rw [d0, drop_app _ _ 3 (pbl_len _ _ _)]
  have d5 : l.drop 5 = pbl k 1 1 ++ (pbl id.size 1 1 ++ (txI id ++ (pbl n 4 4 ++ (pbl zs.length 1 1 ++ (zs ++ t))))) := by rw [show 5 = 3 + 2 from rfl, ← List.drop_drop, d3, drop_app _ _ 2 (pbl_len _ _ _)]
  have d6 : l.drop 6 = pbl id.size 1 1 ++ (txI id ++ (pbl n 4 4 ++ (pbl zs.length 1 1 ++ (zs ++ t)))) := by rw [show 6 = 5 + 1 from rfl, ← List.drop_drop, d5, drop_app _ _ 1 (pbl_len _ _ _)]
  have d7 : l.drop 7 = txI id ++ (pbl n 4 4 ++ (pbl zs.length 1 1 ++ (zs ++ t))) := by rw [show 7 = 6 + 1 from rfl, ← List.drop_drop, d6, drop_app _ _ 1 (pbl_len _ _ _)]
  have dn : l.drop (7 + id.size) = pbl n 4 4 ++ (pbl zs.length 1 1 ++ (zs ++ t)) := by rw [← List.drop_drop, d7, drop_app _ _ id.size (txI_len _)]
  have dd : l.drop (11 + id.size) = pbl zs.length 1 1 ++ (zs ++ t) := by rw [show 11 + id.size = 7 + id.size + 4 by omega, ← List.drop_drop, dn, drop_app _ _ 4 (pbl_len _ _ _)]
  have dz : l.drop (12 + id.size) = zs ++ t := by rw [show 12 + id.size = 11 + id.size + 1 by omega, ← List.drop_drop, dd, drop_app _ _ 1 (pbl_len _ _ _)]
  have hid : idN l = id.size := by rw [idN, d6, take_app _ _ 1 (pbl_len _ _ _), gbOneR _ hi, Int.toNat_natCast]
  have hdn : dataN l = zs.length := by rw [dataN, hid, dd, take_app _ _ 1 (pbl_len _ _ _), gbOneR _ hz, Int.toNat_natCast]
  refine ⟨hid, hdn, ?_⟩
  rw [parseR, hid, hdn, d3, d5, d7, dn, dz, take_app _ _ 2 (pbl_len _ _ _), take_app _ _ 1 (pbl_len _ _ _), take_app _ _ id.size (txI_len _), take_app _ _ 4 (pbl_len _ _ _), take_app _ _ zs.length rfl, txU_txI, gbTwoR _ hq, gbOneR _ hk, gbFourR _ hn, d0, take_app _ _ 3 (pbl_len _ _ _), gbThreeR _ he]

theorem parse_put {r : R} (h : r.ok = true) (t : List Int) : idN (r.body ++ t) = r.id.size ∧ dataN (r.body ++ t) = r.zs.length ∧ parseR (r.body ++ t) = r := by
  obtain ⟨he, hq, hk, hi, hn, hd⟩ := okRec_iff h
  obtain ⟨e, q, k, id, n, zs⟩ := r
  dsimp only at he hq hk hi hn hd
  obtain ⟨E, rfl⟩ := Int.eq_ofNat_of_zero_le he.1
  obtain ⟨Q, rfl⟩ := Int.eq_ofNat_of_zero_le hq.1
  obtain ⟨K, rfl⟩ := Int.eq_ofNat_of_zero_le (show 0 ≤ k by omega)
  obtain ⟨M, rfl⟩ := Int.eq_ofNat_of_zero_le hn.1
  have hb := parse_back E Q K id M zs t (by omega) (by omega) (by omega) (by omega) (by omega) (by omega)
  simpa [R.body] using hb

/-- Which record a text is. -/
def recOf (s : ByteArray) : Option R := if (parseR (txI s)).ok = true ∧ (parseR (txI s)).put = txI s then some (parseR (txI s)) else none

theorem recOf_iff {s : ByteArray} {r : R} : recOf s = some r ↔ r.ok = true ∧ r.put = txI s := by
  constructor
  · intro h
    rw [recOf] at h
    split at h
    · injection h with h
      subst h
      assumption
    · cases h
  · rintro ⟨h1, h2⟩
    have hp : parseR (txI s) = r := by rw [← h2]; exact (parse_put h1 _).2.2
    rw [recOf, hp, if_pos ⟨h1, h2⟩]

theorem recOf_none {s : ByteArray} (h : ¬ ((parseR (txI s)).ok = true ∧ (parseR (txI s)).put = txI s)) : recOf s = none := if_neg h

theorem recOf_parse {s : ByteArray} (h1 : (parseR (txI s)).ok = true) (h2 : (parseR (txI s)).put = txI s) : recOf s = some (parseR (txI s)) := if_pos ⟨h1, h2⟩

/-- A text that is a record is long enough. -/
theorem recOf_len {s : ByteArray} (h : recOf s ≠ none) : 16 ≤ s.size ∧ 16 + idN (txI s) + dataN (txI s) = s.size ∧ s.size ≤ 48 := by
  cases hr : recOf s with
  | none => exact absurd hr h
  | some r =>
    obtain ⟨h1, h2⟩ := recOf_iff.1 hr
    obtain ⟨p1, p2, _⟩ := parse_put h1 (pbl (crcL r.body ^^^ 4294967295) 4 4)
    have hl := put_len r
    obtain ⟨_, _, _, hi, _, hd⟩ := okRec_iff h1
    rw [show r.body ++ pbl (crcL r.body ^^^ 4294967295) 4 4 = r.put from rfl, h2] at p1 p2
    rw [h2, txI_len] at hl
    omega

end Go.Proofs.YtpjldfpipchmjavGreatDoor

namespace Go.Proofs.YtpjldfpipchmjavGreatDoor
open Go.RowKit
set_option linter.unusedVariables false

theorem ownBlock_of (a : Option Addr) (n cap : Nat) : (Value.slice a n cap).ownBlock = a.map (·.block) := by cases a <;> rfl

theorem seg_nil {w : World} {a : Option Addr} {len : Nat} {zs : List Int} (hs : Seg w a len zs) : a = none → len = 0 := by
  intro h
  rcases hs.2.2 with h0 | ⟨b, off, e, _⟩
  · exact h0
  · rw [h] at e; cases e

theorem seg_src {w : World} {a : Option Addr} {len : Nat} {zs : List Int} (hs : Seg w a len zs) : ∀ ad, a = some ad → ∀ j u, (zs.map (Value.int .u8))[j]? = some u → w.cell? (ad.add j) = some u := by
  intro ad ha j u hj
  have hl2 : j < zs.length := by
    by_cases h : j < zs.length
    · exact h
    · rw [List.getElem?_eq_none (by simp; omega)] at hj; cases hj
  rcases hs.2.2 with h | ⟨b, off, h, _⟩
  · have := hs.1; omega
  · rw [ha] at h
    injection h with h
    subst h
    subst ha
    exact cells_ints hs j u hj

end Go.Proofs.YtpjldfpipchmjavGreatDoor

namespace Go.Proofs.YtpjldfpipchmjavGreatDoor
open Go.RowKit
set_option linter.unusedVariables false

theorem step_append_app {P : Program} {ops : Array Oper} {o : Oper} {a : Act} {w : World} {K : Act → World → Prop} {Q : Exit → Act → World → Prop} {E : Prop} (hgd : o.guard = none) (s x : Operand) (t tx : TypeId)
    (ho : o.op = .call { callee := .builtin .append, args := #[s, x], argTypes := #[t, tx] })
    (base : Nat) (e : TypeId) (i : TypeInfo) (z : Value) (size bytes : Nat) (ht : P.underlying t = some (.slice e)) (hi : P.info? e = some i) (hz : i.zero = some z)
    (hsize : i.size = size) (hby : i.bytes = bytes) (hzs : z.cells.size = size) (hsz : 0 < size)
    (g n cap : Nat) (xs : List Value) (hs : a.eval s = .slice (some ⟨g, 0, none⟩) n cap) (hown : w.ownsRow base e size (.slice (some ⟨g, 0, none⟩) n cap) n xs)
    (u : Value) (m : Nat) (news : List Value) (hx : a.eval x = u) (hsrc : Src P size tx u m news w)
    (h63 : n + m ≤ maxLen) (hbytes : (n + m) * bytes ≤ 140737488355328) (hbase : base ≤ w.heap.size) (M : Nat) (hM : n + m = M) (hM0 : 0 < M) (ys : List Value) (hys : xs ++ news = ys)
    (h : ∀ g' c' w', w'.ownsRow base e size (.slice (some ⟨g', 0, none⟩) M c') M ys → w.grownBy w' (some g) → K (a.put o.dst (.slice (some ⟨g', 0, none⟩) M c')) w') :
    if Region.wanted o (yielded ops a.tmps) = true then Oper.wp P o a w K Q else E := by
  have hw : Region.wanted o (yielded ops a.tmps) = true := by simp [Region.wanted, hgd]
  rw [if_pos hw]
  obtain ⟨v', w', hr, h2, h3⟩ := run_append_any (P := P) w base t tx o.type e i z size bytes ht hi hz hsize hby hzs hsz g n cap xs hown u m news hsrc h63 hbytes hbase
  unfold Oper.wp execOp
  simp only [ho, resolve, invoke, builtin, Sem.run_bind, Sem.run_pure, Result.andThen_ok, List.map_toArray, List.map_cons, List.map_nil, hs, hx, hr]
  rw [hM, hys] at h2
  rcases h2.2 with ⟨_, h0⟩ | ⟨g', c', cur, rfl, _⟩
  · omega
  · exact h g' c' w' h2 h3

theorem owns_low {w : World} {base lo n cap : Nat} {a : Option Addr} {zs : List Int} (h : Owns w base a n cap zs) (hl : lo ≤ base) : Owns w lo a n cap zs := ⟨own_low h.1 hl, h.2⟩

/-- Where a row of some bytes lies. -/
theorem owns_at {w : World} {base n cap : Nat} {a : Option Addr} {zs : List Int} (h : Owns w base a n cap zs) (hn : 0 < n) : ∃ g, a = some ⟨g, 0, none⟩ ∧ base ≤ g ∧ g < w.heap.size := by
  rcases h.1.2 with ⟨_, h0⟩ | ⟨g, cap', cur, he, hb, hg, _⟩
  · omega
  · injection he with e1 _ _
    exact ⟨g, e1, hb, (Array.getElem?_eq_some_iff.1 hg).1⟩

/-- A row of bytes as a text. -/
theorem conv_txt {W : World} {g M c : Nat} {zs : List Int} (h : Seg W (some ⟨g, 0, none⟩) M zs) : (convert 45 9 (.slice (some ⟨g, 0, none⟩) M c)).run Tryz.prog W = .ok (.string (txU zs)) W := by
  have hl : (zs.map fun z => UInt8.ofNat z.toNat).length = M := by rw [List.length_map, h.1]
  have hr := run_convert_bytes_back (P := Tryz.prog) W 45 9 5 ⟨g, 0, none⟩ c (zs.map fun z => UInt8.ofNat z.toNat) Tryz.underlying45 (by kernel_rfl) (by kernel_rfl) (by
    intro j hj
    have hjM : j < M := by omega
    have hp : (⟨g, 0, none⟩ : Addr).add j = ⟨g, j, none⟩ := by unfold Addr.add; split <;> simp_all
    rw [hp]
    rcases h.2.2 with h0 | ⟨b, off, e, _, hc⟩
    · omega
    · injection e with e
      injection e with e1 e2 _
      subst e1 e2
      have := hc j hjM
      rw [Nat.zero_add] at this
      rw [this]
      have hjz : j < zs.length := by rw [h.1]; exact hjM
      have hz := h.2.1 zs[j] (List.getElem_mem hjz)
      rw [List.getD_eq_getElem?_getD, List.getElem?_eq_getElem hjz]
      simp
      omega)
  rw [hl] at hr
  exact hr

/-- A part of bytes. -/
theorem Seg.part7 {w : World} {b len : Nat} {zs : List Int} (h : Seg w (some ⟨b, 0, none⟩) len zs) (T n : Nat) (hT : T + n ≤ len) : Seg w (some ⟨b, T, none⟩) n ((zs.drop T).take n) := by
  obtain ⟨h1, h2, h3⟩ := h
  refine ⟨by simp; omega, fun x hx => h2 x (List.mem_of_mem_drop (List.mem_of_mem_take hx)), ?_⟩
  by_cases hn : n = 0
  · exact .inl hn
  · rcases h3 with h0 | ⟨b', off, e, hb, hc⟩
    · omega
    · injection e with e
      injection e with e1 e2 _
      subst e1 e2
      refine .inr ⟨b, T, rfl, hb, fun i hi => ?_⟩
      have := hc (T + i) (by omega)
      rw [Nat.zero_add] at this
      rw [this]
      simp [List.getD_eq_getElem?_getD, List.getElem?_drop, hi]

/-- A part of bytes as a text. -/
theorem conv_txt_at {W : World} {g o M c : Nat} {zs : List Int} (h : Seg W (some ⟨g, o, none⟩) M zs) : (convert 45 9 (.slice (some ⟨g, o, none⟩) M c)).run Tryz.prog W = .ok (.string (txU zs)) W := by
  have hl : (zs.map fun z => UInt8.ofNat z.toNat).length = M := by rw [List.length_map, h.1]
  have hr := run_convert_bytes_back (P := Tryz.prog) W 45 9 5 ⟨g, o, none⟩ c (zs.map fun z => UInt8.ofNat z.toNat) Tryz.underlying45 (by kernel_rfl) (by kernel_rfl) (by
    intro j hj
    have hjM : j < M := by omega
    have hp : (⟨g, o, none⟩ : Addr).add j = ⟨g, o + j, none⟩ := by unfold Addr.add; split <;> simp_all
    rw [hp]
    rcases h.2.2 with h0 | ⟨b, off, e, _, hc⟩
    · omega
    · injection e with e
      injection e with e1 e2 _
      subst e1 e2
      rw [hc j hjM]
      have hjz : j < zs.length := by rw [h.1]; exact hjM
      have hz := h.2.1 zs[j] (List.getElem_mem hjz)
      rw [List.getD_eq_getElem?_getD, List.getElem?_eq_getElem hjz]
      simp
      omega)
  rw [hl] at hr
  exact hr

theorem Seg.src {W : World} {a : Option Addr} {d c : Nat} {zs : List Int} (hs : Seg W a d zs) : Src Tryz.prog 1 45 (.slice a d c) d (zs.map (Value.int .u8)) W := by
  cases a with
  | none =>
    have h0 : d = 0 := seg_nil hs rfl
    subst h0
    obtain rfl : zs = [] := List.eq_nil_of_length_eq_zero hs.1
    exact Src.ofNil _ Tryz.underlying45 c
  | some ad => exact Src.ofSlice _ Tryz.underlying45 ad d c _ (by rw [List.length_map, hs.1, Nat.mul_one]) (seg_src hs ad rfl) (ints_one zs)

theorem byteCells_txI (s : ByteArray) : byteCells s = (txI s).map (Value.int .u8) := by
  simp [byteCells, txI]

end Go.Proofs.YtpjldfpipchmjavGreatDoor

namespace Go.Proofs.YtpjldfpipchmjavGreatDoor
open Go.RowKit
set_option linter.unusedVariables false

theorem run_append_loc {P : Program} (w : World) (base : Nat) (t tx ty e : TypeId) (i : TypeInfo) (z : Value) (size bytes : Nat) (ht : P.underlying t = some (.slice e)) (hi : P.info? e = some i) (hz : i.zero = some z)
    (hsize : i.size = size) (hby : i.bytes = bytes) (hzs : z.cells.size = size) (hsz : 0 < size)
    (g n cap : Nat) (xs : List Value) (hown : w.ownsRow base e size (.slice (some ⟨g, 0, none⟩) n cap) n xs)
    (x : Value) (m : Nat) (news : List Value) (hs : Src P size tx x m news w)
    (h63 : n + m ≤ maxLen) (hbytes : (n + m) * bytes ≤ 140737488355328) (hbase : base ≤ w.heap.size) :
    ∃ g' c' w', (Builtin.append_ #[t, tx] ty #[.slice (some ⟨g, 0, none⟩) n cap, x]).run P w = .ok (.slice (some ⟨g', 0, none⟩) (n + m) c') w' ∧ w'.ownsRow base e size (.slice (some ⟨g', 0, none⟩) (n + m) c') (n + m) (xs ++ news) ∧ w.grownBy w' (some g) ∧ (g' = g ∨ g' = w.heap.size) := by
  subst hsize
  subst hby
  have hsmall : n + m ≤ 9223372036854775807 := by simp only [maxLen] at h63; omega
  have hl := hs.newsLen
  have hlen : (xs ++ news).length = (n + m) * i.size := by rw [List.length_append, hown.1, hl, Nat.add_mul]
  rcases hown.2 with ⟨h, _⟩ | ⟨g', cap', cur, heq, hbg, hg, hnc, hcm, hcs, htake⟩
  · cases h
  · injection heq with e1 e2 e3
    injection e1 with e1
    injection e1 with e1
    subst e1
    subst e3
    by_cases hroom : n + m ≤ cap
    · have hfit : n * i.size + news.length ≤ cur.size := by rw [hl, hcs, ← Nat.add_mul]; exact Nat.mul_le_mul_right _ hroom
      have hr := run_room_any w t tx ty e i ht hi g n cap cur hg x m news hs hroom hfit
      refine ⟨_, _, _, hr, ⟨hlen, .inr ⟨g, cap, _, rfl, hbg, setRow_heap w g cur _ e _ hg, hroom, hcm, ?_, ?_⟩⟩, ⟨rfl, rfl, rfl, by simp, fun k _ hk => setRow_other w g k _ (fun e => hk (by simp [e]))⟩, .inl rfl⟩
      · simp only [List.size_toArray, List.length_append, List.length_take, List.length_drop, Array.length_toList]
        omega
      · rw [htake, ← hlen]
        exact List.take_left
    · have holds : ∀ j u, xs[j]? = some u → w.cell? ((⟨g, 0, none⟩ : Addr).add j) = some u := hown.cells (g := g) rfl
      have hold := run_firstCells_some (P := P) w.drew i.size n ⟨g, 0, none⟩ n cap xs hown.1 (by simpa using holds)
      have hr := run_append_grow_src (P := P) w t tx ty e i z ht hi hz (some ⟨g, 0, none⟩) n cap xs hold x m news hs (by omega) (by omega) (growslice_fits (by omega) hbytes)
      have hge := grownCap_ge w (n + m) cap e
      have hcm' : grownCap w (n + m) cap e ≤ maxLen := grownCap_le_maxLen w (n + m) cap e h63
      refine ⟨_, _, _, hr, ⟨hlen, .inr ⟨w.heap.size, _, _, rfl, hbase, heap_alloc_new w.drew _, hge, hcm', ?_, ?_⟩⟩, ⟨rfl, rfl, rfl, by simp, fun k hk _ => heap_alloc_old w.drew _ hk⟩, .inr rfl⟩
      · simp only [Array.size_append, List.size_toArray, size_zeroCells, hzs, hlen, ← Nat.add_mul]
        congr 1
        omega
      · simp only [Array.toList_append]
        rw [← hlen]
        exact List.take_left

theorem wpList_append_loc {P : Program} {w : World} {ops : Array Oper} {rest : List Oper} {o : Oper} {a : Act} {Q : Exit → Act → World → Prop} (hgd : o.guard = none) (s x : Operand) (t tx : TypeId)
    (ho : o.op = .call { callee := .builtin .append, args := #[s, x], argTypes := #[t, tx] })
    (base : Nat) (e : TypeId) (i : TypeInfo) (z : Value) (size bytes : Nat) (ht : P.underlying t = some (.slice e)) (hi : P.info? e = some i) (hz : i.zero = some z)
    (hsize : i.size = size) (hby : i.bytes = bytes) (hzs : z.cells.size = size) (hsz : 0 < size)
    (g n cap : Nat) (xs : List Value) (hs : a.eval s = .slice (some ⟨g, 0, none⟩) n cap) (hown : w.ownsRow base e size (.slice (some ⟨g, 0, none⟩) n cap) n xs)
    (u : Value) (m : Nat) (news : List Value) (hx : a.eval x = u) (hsrc : Src P size tx u m news w)
    (h63 : n + m ≤ maxLen) (hbytes : (n + m) * bytes ≤ 140737488355328) (hbase : base ≤ w.heap.size)
    (h : ∀ g' c' w', w'.ownsRow base e size (.slice (some ⟨g', 0, none⟩) (n + m) c') (n + m) (xs ++ news) → w.grownBy w' (some g) → (g' = g ∨ g' = w.heap.size) → wpList P ops Q rest (a.put o.dst (.slice (some ⟨g', 0, none⟩) (n + m) c')) w') : wpList P ops Q (o :: rest) a w := by
  refine wpList_plain hgd fun K hK => ?_
  obtain ⟨g', c', w', hr, h2, h3, h4⟩ := run_append_loc (P := P) w base t tx o.type e i z size bytes ht hi hz hsize hby hzs hsz g n cap xs hown u m news hsrc h63 hbytes hbase
  unfold Oper.wp execOp
  simp only [ho, resolve, invoke, builtin, Sem.run_bind, Sem.run_pure, Result.andThen_ok, List.map_toArray, List.map_cons, List.map_nil, hs, hx, hr]
  exact hK _ _ (h g' c' w' h2 h3 h4)

theorem step_append_loc {P : Program} {ops : Array Oper} {o : Oper} {a : Act} {w : World} {K : Act → World → Prop} {Q : Exit → Act → World → Prop} {E : Prop} (hgd : o.guard = none) (s x : Operand) (t tx : TypeId)
    (ho : o.op = .call { callee := .builtin .append, args := #[s, x], argTypes := #[t, tx] })
    (base : Nat) (e : TypeId) (i : TypeInfo) (z : Value) (size bytes : Nat) (ht : P.underlying t = some (.slice e)) (hi : P.info? e = some i) (hz : i.zero = some z)
    (hsize : i.size = size) (hby : i.bytes = bytes) (hzs : z.cells.size = size) (hsz : 0 < size)
    (g n cap : Nat) (xs : List Value) (hs : a.eval s = .slice (some ⟨g, 0, none⟩) n cap) (hown : w.ownsRow base e size (.slice (some ⟨g, 0, none⟩) n cap) n xs)
    (u : Value) (m : Nat) (news : List Value) (hx : a.eval x = u) (hsrc : Src P size tx u m news w)
    (h63 : n + m ≤ maxLen) (hbytes : (n + m) * bytes ≤ 140737488355328) (hbase : base ≤ w.heap.size)
    (h : ∀ g' c' w', w'.ownsRow base e size (.slice (some ⟨g', 0, none⟩) (n + m) c') (n + m) (xs ++ news) → w.grownBy w' (some g) → (g' = g ∨ g' = w.heap.size) → K (a.put o.dst (.slice (some ⟨g', 0, none⟩) (n + m) c')) w') :
    if Region.wanted o (yielded ops a.tmps) = true then Oper.wp P o a w K Q else E := by
  have hw : Region.wanted o (yielded ops a.tmps) = true := by simp [Region.wanted, hgd]
  rw [if_pos hw]
  obtain ⟨g', c', w', hr, h2, h3, h4⟩ := run_append_loc (P := P) w base t tx o.type e i z size bytes ht hi hz hsize hby hzs hsz g n cap xs hown u m news hsrc h63 hbytes hbase
  unfold Oper.wp execOp
  simp only [ho, resolve, invoke, builtin, Sem.run_bind, Sem.run_pure, Result.andThen_ok, List.map_toArray, List.map_cons, List.map_nil, hs, hx, hr]
  exact h g' c' w' h2 h3 h4

end Go.Proofs.YtpjldfpipchmjavGreatDoor

namespace Go.Proofs.YtpjldfpipchmjavGreatDoor
open Go.RowKit
set_option linter.unusedVariables false

set_option maxRecDepth 10000 in
set_option maxHeartbeats 1600000 in
theorem specCopyU_any (a : Option Addr) (n c lo : Nat) (l : List UE) (w : World) (h : UpRow w lo (.slice a n c) l) (hn : n = l.length) (hl : n ≤ 1048576) (hz : ∀ e ∈ l, e.n ≤ 1099511627776) :
    Calls Tryz.prog 127 #[.slice a n c] w fun e w' => (∃ v l', e = .returned v ∧ UpRow w' w.heap.size v l' ∧ l'.map UE.u = l.map UE.u ∧ ∀ e ∈ l', ∃ g, e.a = some ⟨g, 0, none⟩) ∧ Below w.heap.size w w' := by
  obtain ⟨i0, hi, hz0, hz1, hz2⟩ := info_parts info_up
  obtain ⟨j0, ji, jz0, jz1, jz2⟩ := info_parts Tryz.info5
  have HX : Hid (∀ W, Below w.heap.size w W → UpRow W lo (.slice a n c) l) := fun W hb => h.stays hb
  have HN : Hid (n = l.length) := hn
  have HZ : Hid (∀ e ∈ l, e.n ≤ 1099511627776) := hz
  clear h hn hz
  have HO0 : Hid (UpRow (w.alloc (.cells #[] 118)) w.heap.size (.slice (some ⟨w.heap.size, 0, none⟩) 0 0) []) := UpRow.nil w
  have HB0 : Hid (Below w.heap.size w (w.alloc (.cells #[] 118))) := (Below.refl _ _).alloc (Nat.le_refl _) _
  go_enter Tryz.func127, Tryz.ntmps127
  go_wp2_with fail
  go_loopw [3, 4] (fun v i wr => ∃ (k : Nat) (l' : List UE), k ≤ n ∧ l'.length = k ∧ i = .int .i64 (k : Int) ∧ Hid (UpRow wr w.heap.size v l') ∧ Hid (l'.map UE.u = (l.map UE.u).take k) ∧ Hid (∀ e ∈ l', ∃ g, e.a = some ⟨g, 0, none⟩) ∧ Hid (Below w.heap.size w wr)) (fun _ i _ => n - (intOf i).toNat)
  case atStart => exact ⟨0, [], Nat.zero_le _, rfl, rfl, HO0, rfl, (fun e he => absurd he (List.not_mem_nil)), HB0⟩
  case round =>
    clear HO0 HB0
    obtain ⟨k, l', hk, hlk, rfl, HO, HM, HSm, HW⟩ := hrel
    obtain ⟨va, vc, hve⟩ := HO.out.shape
    subst hve
    rw [hlk] at HO ⊢
    by_cases hlt : k < n
    case neg =>
      obtain rfl : k = n := by omega
      have HF : Hid (l'.map UE.u = l.map UE.u) := by show _ = _; rw [HM.out, List.take_of_length_le (by rw [List.length_map, HN.out]; exact Nat.le_refl _)]
      clear HM
      go_wp2_with fail
      go_ret
      exact ⟨⟨_, l', rfl, HO.out, HF.out, HSm.out⟩, HW.out⟩
    have hkl : k < l.length := by rw [← HN.out]; exact hlt
    have hki : (k : Int) < (n : Int) := by omega
    have hk0 : (0 : Int) ≤ (k : Int) := by omega
    obtain ⟨g, rfl, g0, g1, g2, g3, _⟩ := (HX.out _ HW.out).at HN.out hkl
    have HSg : Hid (Seg wr (l[k]).a (l[k]).n (l[k]).u.zs) := ((HX.out _ HW.out).2.1 (l[k]) (List.getElem_mem hkl)).seg
    have hen : (l[k]).n ≤ 1099511627776 := HZ.out _ (List.getElem_mem hkl)
    have HM2 : Hid (l'.map UE.u ++ [(l[k]).u] = (l.map UE.u).take (k + 1)) := by show _ = _; rw [List.take_add_one, List.getElem?_map, List.getElem?_eq_getElem hkl, HM.out]; rfl
    clear HM
    generalize l[k] = e at *
    have hb1 := (Below.refl wr.heap.size wr).alloc (Nat.le_refl _) (.cells #[.string e.u.id, .int .i64 e.u.want, .slice e.a e.n e.c, .bool e.u.done] 118)
    have HB1 : Hid (Below w.heap.size w (wr.alloc (.cells #[.string e.u.id, .int .i64 e.u.want, .slice e.a e.n e.c, .bool e.u.done] 118))) := HW.out.trans (hb1.mono HW.out.size)
    have HO1 : Hid (UpRow (wr.alloc (.cells #[.string e.u.id, .int .i64 e.u.want, .slice e.a e.n e.c, .bool e.u.done] 118)) w.heap.size (.slice va k vc) l') := HO.out.stays hb1
    have HS1 : Hid (Seg (wr.alloc (.cells #[.string e.u.id, .int .i64 e.u.want, .slice e.a e.n e.c, .bool e.u.done] 118)) e.a e.n e.u.zs) := HSg.out.below hb1
    have HU1 : Hid (BoxN (wr.alloc (.cells #[.string e.u.id, .int .i64 e.u.want, .slice e.a e.n e.c, .bool e.u.done] 118)) wr.heap.size 118 [.string e.u.id, .int .i64 e.u.want, .slice e.a e.n e.c, .bool e.u.done]) := BoxN.new _ _ _
    have hlo : w.heap.size ≤ wr.heap.size := HW.out.size
    have HAp : Hid (∀ x ∈ l', ∀ q, x.a.map (·.block) = some q → q < wr.heap.size) := fun x hx q hq => (HO.out.lts.2 x hx q hq).2
    have HVa : Hid (∀ q, (Value.slice va k vc).ownBlock = some q → q < wr.heap.size) := fun q hq => (HO.out.lts.1 q hq).2
    clear hb1 HSg HW HO
    go_upto_region 6 with fail
    obtain ⟨x1, hx1⟩ : ∃ x1, wr.alloc (.cells #[.string e.u.id, .int .i64 e.u.want, .slice e.a e.n e.c, .bool e.u.done] 118) = x1 := ⟨_, rfl⟩
    rw [hx1] at HB1 HO1 HS1 HU1 ⊢
    clear hx1 g0 g1 g2 g3
    generalize wr.heap.size = bx at *
    have hbx : bx < x1.heap.size := HU1.out.lt
    have hb2 := (Below.refl x1.heap.size x1).alloc (Nat.le_refl _) (.cells #[] 5)
    have HR2 : Hid ((x1.alloc (.cells #[] 5)).ownsRow x1.heap.size 5 1 (.slice (some ⟨x1.heap.size, 0, none⟩) 0 0) 0 []) := World.ownsRow_lit x1 #[] 0 (Nat.le_refl _) (Nat.zero_le _) rfl
    have HSr : Hid (Src Tryz.prog 1 45 (.slice e.a e.n e.c) e.n (e.u.zs.map (Value.int .u8)) (x1.alloc (.cells #[] 5))) := (HS1.out.below hb2).src
    have hU2 := HU1.out.stays hb2
    have u2 := hU2.cell 2 rfl
    have HZr : Hid (∀ x ∈ e.u.zs, 0 ≤ x ∧ x ≤ 255) := HS1.out.2.1
    have HL2 : Hid (x1.heap.size ≤ (x1.alloc (.cells #[] 5)).heap.size) := hb2.size
    go_wp2_with (at_builtin; refine wpList_append_loc rfl _ _ 45 45 rfl x1.heap.size 5 j0 (.int .u8 0) 1 1 Tryz.underlying45 ji jz0 jz1 jz2 rfl (by decide) x1.heap.size 0 0 [] rfl HR2.out (.slice e.a e.n e.c) e.n (e.u.zs.map (Value.int .u8)) rfl HSr.out (by unfold maxLen; omega) (by omega) HL2.out ?_; intro gA C x3 hown3 hg3 _; refine Hid.out ?_)
    refine hidden ?_
    obtain ⟨A, hAe⟩ : ∃ A : Option Addr, some ⟨gA, 0, none⟩ = A := ⟨_, rfl⟩
    have HAe : Hid (some ⟨gA, 0, none⟩ = A) := hAe
    rw [hAe] at hown3 ⊢
    have hown3' : x3.ownsRow x1.heap.size 5 1 (.slice A e.n C) e.n (e.u.zs.map (Value.int .u8)) := by
      have h := hown3
      rw [Nat.zero_add] at h
      simpa using h
    clear hAe
    have ho3 : Owns x3 x1.heap.size A e.n C e.u.zs := ⟨hown3', HZr.out⟩
    have hU3 := hU2.grown hg3 (fun q => by injection q with q; omega)
    have hO3 : UpRow x3 w.heap.size (.slice va k vc) l' := (HO1.out.stays hb2).grown hg3 (fun q hq hq2 => by injection hq with hq; have := HVa.out q hq2; omega) (fun x hx q hq hq2 => by injection hq with hq; have := HAp.out x hx q hq2; omega)
    have hB3 : Below w.heap.size w x3 := (HB1.out.trans (hb2.mono HB1.out.size)).grown hg3 (by have := HB1.out.size; have := hb2.size; omega) (fun q hq => by injection hq with hq; have := HB1.out.size; omega)
    have y2 := hU3.cell 2 rfl
    have z2 := hU3.frozen 2
    have hA : A.map (·.block) ≠ some bx := fun q => by have := (ho3.lt _ q).1; omega
    have hgs : x3.grownBy (x3.setCell ⟨bx, 2, none⟩ (.slice A e.n C)) (some bx) := grownBy_setU x3 bx 2 _
    have HU4 : Hid (BoxN (x3.setCell ⟨bx, 2, none⟩ (.slice A e.n C)) bx 118 [.string e.u.id, .int .i64 e.u.want, .slice A e.n C, .bool e.u.done]) := hU3.set 2 _
    have HO4 : Hid (UpRow (x3.setCell ⟨bx, 2, none⟩ (.slice A e.n C)) w.heap.size (.slice va k vc) l') := hO3.grown hgs (fun q hq hq2 => by injection hq with hq; have := HVa.out q hq2; omega) (fun x hx q hq hq2 => by injection hq with hq; have := HAp.out x hx q hq2; omega)
    have HD4 : Hid (Owns (x3.setCell ⟨bx, 2, none⟩ (.slice A e.n C)) (bx + 1) A e.n C e.u.zs) := owns_low (owns_set ho3 hA) (by omega)
    have HB4 : Hid (Below w.heap.size w (x3.setCell ⟨bx, 2, none⟩ (.slice A e.n C))) := hB3.setCell (by dsimp only; omega) _
    clear hown3 hown3' ho3 hU3 hO3 hB3 hA hgs hg3 hU2 u2 HR2 HSr HB1 HO1 HS1 HU1 hb2 HL2
    go_upto_region 7 with fail
    obtain ⟨x4, hx4⟩ : ∃ x4, (x3.setCell ⟨bx, 2, none⟩ (.slice A e.n C)) = x4 := ⟨_, rfl⟩
    rw [hx4] at HU4 HO4 HD4 HB4 ⊢
    clear hx4 y2 z2
    have hbx4 : bx < x4.heap.size := HU4.out.lt
    have hw4 : w.heap.size ≤ x4.heap.size := HB4.out.size
    obtain ⟨t0, t1, t2, t3⟩ := (show _ ∧ _ ∧ _ ∧ _ from ⟨HU4.out.cell 0 rfl, HU4.out.cell 1 rfl, HU4.out.cell 2 rfl, HU4.out.cell 3 rfl⟩)
    have HNw : Hid (∀ j u, (UE.cells ⟨e.u, A, e.n, C⟩)[j]? = some u → (x4.alloc (.cells #[.string e.u.id, .int .i64 e.u.want, .slice A e.n C, .bool e.u.done] 118)).cell? ((⟨x4.heap.size, 0, none⟩ : Addr).add j) = some u) := four_new x4 e.u A e.n C
    have HO4' : Hid ((x4.alloc (.cells #[.string e.u.id, .int .i64 e.u.want, .slice A e.n C, .bool e.u.done] 118)).ownsRow w.heap.size 118 4 (.slice va k vc) k (ueCells l')) := by
      have h := HO4.out.1.alloc (.cells #[.string e.u.id, .int .i64 e.u.want, .slice A e.n C, .bool e.u.done] 118)
      rw [hlk] at h
      exact h
    have HAp' : Hid (∀ x ∈ l', ∀ q, x.a.map (·.block) = some q → q < bx + 1) := fun x hx q hq => by have := HAp.out x hx q hq; omega
    go_wp2_with (at_builtin; refine wpList_append_own _ rfl _ _ 34 rfl w.heap.size 118 i0 (.agg #[.string ⟨#[]⟩, .int .i64 0, .slice none 0 0, .bool false]) 4 56 Tryz.underlying34 hi hz0 hz1 hz2 rfl (by decide) (.slice va k vc) k _ rfl HO4'.out ⟨x4.heap.size, 0, none⟩ 1 1 (UE.cells ⟨e.u, A, e.n, C⟩) rfl rfl HNw.out (four_one e.u A e.n C) (by unfold maxLen; omega) (by omega) (by simp; omega) ?_; intro v5 x5 hown5 hg5 _; refine Hid.out ?_)
    refine hidden ?_
    have HO5 : Hid (UpRow x5 w.heap.size v5 (l' ++ [⟨e.u, A, e.n, C⟩])) := HO4.out.snoc HD4.out (by omega) HAp'.out (by rw [hlk]; exact hown5) hg5
    have HB5 : Hid (Below w.heap.size w x5) := (HB4.out.alloc HB4.out.size _).grown hg5 (by simp; omega) (fun q hq => (HO4.out.lts.1 q hq).1)
    have HM5 : Hid ((l' ++ [(⟨e.u, A, e.n, C⟩ : UE)]).map UE.u = (l.map UE.u).take (k + 1)) := by show _ = _; rw [List.map_append]; exact HM2.out
    have HSm5 : Hid (∀ x ∈ l' ++ [(⟨e.u, A, e.n, C⟩ : UE)], ∃ g, x.a = some ⟨g, 0, none⟩) := fun x hx => by
      rcases List.mem_append.1 hx with hx | hx
      · exact HSm.out x hx
      · obtain rfl : x = ⟨e.u, A, e.n, C⟩ := by simpa using hx
        exact ⟨gA, HAe.out.symm⟩
    clear hown5 hg5 HNw HO4' HO4 HD4 HU4 HB4 t0 t1 t2 t3 HM2
    obtain ⟨v5a, v5c, rfl⟩ := HO5.out.shape
    rw [List.length_append, hlk] at HO5 ⊢
    go_wp2_with fail
    go_roundw
    case rel => exact ⟨k + 1, l' ++ [⟨e.u, A, e.n, C⟩], by omega, by simp [hlk], by go_num, HO5, HM5, HSm5, HB5⟩
    case measure => simp [intOf]; omega

end Go.Proofs.YtpjldfpipchmjavGreatDoor

namespace Go.Proofs.YtpjldfpipchmjavGreatDoor
open Go.RowKit
set_option linter.unusedVariables false

/-- Where the upload with a name stands. -/
def atU (l : List U) (id : ByteArray) : Option Nat := l.findIdx? fun u => decide (u.id = id)

def atI (l : List U) (id : ByteArray) : Int := match atU l id with
  | some k => (k : Int)
  | none => -1

theorem atU_none {l : List U} {id : ByteArray} (h : ∀ k (hk : k < l.length), (l[k]).id ≠ id) : atU l id = none := by
  rw [atU, List.findIdx?_eq_none_iff]
  intro x hx
  obtain ⟨k, hk, rfl⟩ := List.getElem_of_mem hx
  exact decide_eq_false (h k hk)

theorem atU_some {l : List U} {id : ByteArray} {k : Nat} (hk : k < l.length) (h1 : (l[k]).id = id) (h2 : ∀ j (hj : j < l.length), j < k → (l[j]).id ≠ id) : atU l id = some k := by
  rw [atU, List.findIdx?_eq_some_iff_getElem]
  exact ⟨hk, decide_eq_true h1, fun j hj => by simpa using h2 j (by omega) hj⟩

theorem atU_is {l : List U} {id : ByteArray} {k : Nat} (h : atU l id = some k) : ∃ hk : k < l.length, (l[k]).id = id := by
  rw [atU, List.findIdx?_eq_some_iff_getElem] at h
  obtain ⟨hk, h1, _⟩ := h
  exact ⟨hk, by simpa using h1⟩

/-- Whether a name is above another. -/
def gtS (x y : ByteArray) : Bool := !(Op.bytesLess x.toList y.toList || x.toList == y.toList)

/-- Where one with a name is put: behind the last of the first k that is not above it. -/
def insK (l : List U) (id : ByteArray) : Nat → Nat
  | 0 => 0
  | k + 1 => match l[k]? with
    | some u => if gtS u.id id = true then insK l id k else k + 1
    | none => k + 1

theorem insK_le (l : List U) (id : ByteArray) : ∀ k, insK l id k ≤ k := by
  intro k
  induction k with
  | zero => exact Nat.le_refl _
  | succ k ih =>
    rw [insK]
    split
    · split
      · omega
      · exact Nat.le_refl _
    · exact Nat.le_refl _

theorem insK_down {l : List U} {id : ByteArray} {k : Nat} {u : U} (h : l[k]? = some u) (hlt : gtS u.id id = true) : insK l id (k + 1) = insK l id k := by rw [insK, h]; exact if_pos hlt
theorem insK_stop {l : List U} {id : ByteArray} {k : Nat} {u : U} (h : l[k]? = some u) (hlt : ¬ gtS u.id id = true) : insK l id (k + 1) = k + 1 := by rw [insK, h]; exact if_neg hlt

/-- An upload is put in order. -/
def makeU (l : List U) (u : U) : List U := l.take (insK l u.id l.length) ++ u :: l.drop (insK l u.id l.length)

/-- What a record makes; none: it does not fit. -/
def oneU (l : List U) (r : R) : Option (List U) :=
  if r.k = 1 then (if atU l r.id = none ∧ l.length < 10 then some (makeU l ⟨r.id, r.n, [], false⟩) else none)
  else match atU l r.id with
    | none => none
    | some k => match l[k]? with
      | none => none
      | some u =>
        if r.k = 2 then (if u.done = true ∨ r.n ≠ (u.zs.length : Int) ∨ u.want < r.n + (r.zs.length : Int) then none else some (l.set k { u with zs := u.zs ++ r.zs }))
        else if r.k = 3 then (if u.done = true ∨ (u.zs.length : Int) ≠ u.want then none else some (l.set k { u with done := true }))
        else if r.k = 4 then some (l.eraseIdx k) else none

/-- What records make. -/
def foldU (rs : List R) : Option (List U) := rs.foldlM oneU []

theorem foldU_step (rs : List R) (k : Nat) (r : R) (h : rs[k]? = some r) : foldU (rs.take (k + 1)) = (foldU (rs.take k)).bind fun l => oneU l r := by
  rw [List.take_add_one, h, foldU, foldU, List.foldlM_append]
  simp [List.foldlM]

/-- Once nothing fits, nothing does. -/
theorem foldU_stop (rs : List R) (k : Nat) (h : foldU (rs.take k) = none) : foldU rs = none := by
  have e : rs = rs.take k ++ rs.drop k := (List.take_append_drop k rs).symm
  rw [e, foldU, List.foldlM_append]
  rw [foldU] at h
  rw [h]
  rfl

theorem makeU_len (l : List U) (u : U) : (makeU l u).length = l.length + 1 := by
  have := insK_le l u.id l.length
  simp [makeU]
  omega

theorem oneU_len {l l' : List U} {r : R} (h : oneU l r = some l') : l'.length ≤ l.length ∨ l'.length ≤ 10 := by
  rw [oneU] at h
  split at h
  · split at h
    · rename_i hc
      injection h with h
      rw [← h, makeU_len]
      omega
    · cases h
  · split at h
    · cases h
    · split at h
      · cases h
      · split at h
        · split at h
          · cases h
          · injection h with h; rw [← h]; left; simp
        · split at h
          · split at h
            · cases h
            · injection h with h; rw [← h]; left; simp
          · split at h
            · injection h with h; rw [← h]; left; exact List.length_eraseIdx_le ..
            · cases h

end Go.Proofs.YtpjldfpipchmjavGreatDoor

namespace Go.Proofs.YtpjldfpipchmjavGreatDoor
open Go.RowKit
set_option linter.unusedVariables false

theorem step_append_own {P : Program} {ops : Array Oper} {o : Oper} {a : Act} {w : World} {K : Act → World → Prop} {Q : Exit → Act → World → Prop} {E : Prop}
    (hg : o.guard = none) (s x : Operand) (t : TypeId) (ho : o.op = .call { callee := .builtin .append, args := #[s, x], argTypes := #[t, t] })
    (base : Nat) (e : TypeId) (i : TypeInfo) (z : Value) (size bytes : Nat) (ht : P.underlying t = some (.slice e)) (hi : P.info? e = some i) (hz : i.zero = some z)
    (hsize : i.size = size) (hby : i.bytes = bytes) (hzs : z.cells.size = size) (hsz : 0 < size)
    (v : Value) (n : Nat) (xs : List Value) (hs : a.eval s = v) (hown : w.ownsRow base e size v n xs)
    (ad : Addr) (m c : Nat) (news : List Value) (hx : a.eval x = .slice (some ad) m c) (hl : news.length = m * size) (hnews : ∀ j u, news[j]? = some u → w.cell? (ad.add j) = some u) (h1 : ∀ u ∈ news, u.oneCell' = true)
    (h63 : n + m ≤ maxLen) (hbytes : (n + m) * bytes ≤ 140737488355328) (hbase : base ≤ w.heap.size)
    (h : ∀ v' w', w'.ownsRow base e size v' (n + m) (xs ++ news) → w.grownBy w' v.ownBlock → K (a.put o.dst v') w') :
    if Region.wanted o (yielded ops a.tmps) = true then Oper.wp P o a w K Q else E := by
  have hw : Region.wanted o (yielded ops a.tmps) = true := by simp [Region.wanted, hg]
  rw [if_pos hw]
  exact wp_append_own w s x t ho base e i z size bytes ht hi hz hsize hby hzs hsz v n xs hs hown ad m c news hx hl hnews h1 h63 hbytes hbase fun v' w' h2 h3 _ => h v' w' h2 h3

theorem step_call_same {P : Program} {ops : Array Oper} {o : Oper} {a : Act} {w : World} {K : Act → World → Prop} {Q : Exit → Act → World → Prop} {E : Prop}
    (hg : o.guard = none) (f : FuncId) (x : Operand) (t : TypeId) (ho : o.op = .call { callee := .value (.func f), args := #[x], argTypes := #[t] })
    (hent : ∀ args w, (callFunc f args).run P w = .ok (.enter f args) w) (u v : Value) (hx : a.eval x = u)
    (hc : Calls P f #[u] w fun e w' => e = .returned v ∧ w' = w) (h : K (a.put o.dst v) w) :
    if Region.wanted o (yielded ops a.tmps) = true then Oper.wp P o a w K Q else E := by
  have hw : Region.wanted o (yielded ops a.tmps) = true := by simp [Region.wanted, hg]
  rw [if_pos hw]
  have hf : a.eval (.func f) = .func (.func f) #[] #[] := rfl
  unfold Oper.wp
  simp [execOp, ho, resolve, invoke, Deferred.ofValue, hent, hf, hx, Oper.upon_enter]
  refine hc.mono ?_
  rintro e w' ⟨rfl, rfl⟩
  exact h

end Go.Proofs.YtpjldfpipchmjavGreatDoor
