/- A store that comes in: its disk's two rows of texts, its numbers, its uploads. Plain arithmetic of the sum: one step, eight steps, a list of bytes; no program in it. Requests and answers that are right: no statement of the program; no condition. Records: what is right, the bytes of one, and which one a text is; no program in it. What records make, one behind the other; no program in it. Names held against each other; no program in it. What the program's reach answers: where the first upload of this name lies. What the program's fold does: what must fit; the upload that must be there. -/
import Derived.Test.YtammmecddnafaaaGreatDoorM04
import Derived.Test.YtammmecddnafaaaGreatDoorM06
import Derived.Test.YtammmecddnafaaaGreatDoorM01
import Derived.Test.YtammmecddnafaaaGreatDoorM03
import Derived.Lib.Strings
namespace Go.Proofs.YtammmecddnafaaaGreatDoor
open Go.RowKit Go.ChangeShapes Go.WideShapes Go.Joins Go.Deep
set_option linter.unusedVariables false

theorem array5 {α : Type} {a : Array α} (h : a.size = 5) : ∃ x0 x1 x2 x3 x4, a = #[x0, x1, x2, x3, x4] := by
  obtain ⟨l⟩ := a
  match l, h with
  | [x0, x1, x2, x3, x4], _ => exact ⟨x0, x1, x2, x3, x4, rfl⟩

set_option maxRecDepth 100000 in
theorem disk_cells {H : Type} {enc : TypeId × Value → H} {w : World} {n : Nat} {v0 v1 : Value} {x : DataW H × List MemPlace} (h : DataW.trod enc Tryz.prog w 0 (fun _ => true) true n 24 [v0, v1] = some x) :
    ∃ (a : Option Addr) (n ca : Nat) (xs : List ByteArray) (a' : Option Addr) (n' ca' : Nat) (ys : List ByteArray), v0 = .slice a n ca ∧ v1 = .slice a' n' ca' ∧ n ≤ maxLen ∧ n' ≤ maxLen ∧ Strs w a n xs ∧ Strs w a' n' ys := by
  obtain ⟨xs, m, _, _, hl, hlen, hg⟩ := DataW.trod_struct Tryz.underlying24 h
  have ks : Tryz.prog.cellsOf 22 = 1 := by kernel_rfl
  match xs, hlen with
  | [y0, y1], _ =>
    have g0 := hg 0 _ rfl
    have g1 := hg 1 _ rfl
    simp [ks] at g0 g1
    obtain ⟨a, n, ca, xs, rfl, hla, hx⟩ := Strs.opened g0
    obtain ⟨a', n', ca', ys, rfl, hl', hy⟩ := Strs.opened g1
    exact ⟨a, n, ca, xs, a', n', ca', ys, rfl, rfl, hla, hl', hx, hy⟩

set_option maxRecDepth 100000 in
theorem store_opened {H : Type} {enc : TypeId × Value → H} {w : World} {r : Reach} {b0 : Nat} {v : Value} {d : DataW H} {p : List MemPlace} (hv : Value.okWide Tryz.prog w r b0 27 v) (h : DataW.Trod enc Tryz.prog w 0 (fun _ => true) true 27 v d p) :
    ∃ (a : Option Addr) (n ca : Nat) (xs : List ByteArray) (a' : Option Addr) (n' ca' : Nat) (ys : List ByteArray) (ep nx : Int) (ua : Option Addr) (un uc : Nat) (l : List UE), v = .agg #[.slice a n ca, .slice a' n' ca', .int .i64 ep, .int .i64 nx, .slice ua un uc] ∧ n ≤ maxLen ∧ n' ≤ maxLen ∧ un ≤ maxLen ∧ Strs w a n xs ∧ Strs w a' n' ys ∧ UpsI w ua un l ∧ (Lit.int .i64 ep).wf = true ∧ (Lit.int .i64 nx).wf = true := by
  have hC : Tryz.prog.cellsOf 27 = 5 := by kernel_rfl
  have kd : Tryz.prog.cellsOf 24 = 2 := by kernel_rfl
  have k3 : Tryz.prog.cellsOf 3 = 1 := by kernel_rfl
  have ku : Tryz.prog.cellsOf 25 = 1 := by kernel_rfl
  obtain ⟨cs, rfl, hsz⟩ := okWide_struct Tryz.underlying27 hv
  obtain ⟨c0, c1, c2, c3, c4, rfl⟩ := array5 (hsz.trans hC)
  obtain ⟨fuel, hf⟩ := h
  obtain ⟨xs, m, _, _, hl, hlen, hg⟩ := DataW.trod_struct Tryz.underlying27 hf
  match xs, hlen with
  | [y0, y1, y2, y3], _ =>
    have g0 := hg 0 _ rfl
    have g1 := hg 1 _ rfl
    have g2 := hg 2 _ rfl
    have g3 := hg 3 _ rfl
    simp [Value.cells, kd, k3, ku] at g0 g1 g2 g3
    obtain ⟨a, n, ca, xs, a', n', ca', ys, rfl, rfl, hla, hl', hx, hy⟩ := disk_cells g0
    obtain ⟨ep, e1, _, w1⟩ := DataW.trod_int Tryz.underlying3 g1
    obtain ⟨nx, e2, _, w2⟩ := DataW.trod_int Tryz.underlying3 g2
    obtain ⟨ua, un, uc, l, e3, hlu, hu⟩ := UpsI.opened g3
    simp only [List.cons.injEq, and_true] at e1 e2
    subst e1 e2 e3
    exact ⟨a, n, ca, xs, a', n', ca', ys, ep, nx, ua, un, uc, l, rfl, hla, hl', hlu, hx, hy, hu, w1, w2⟩

end Go.Proofs.YtammmecddnafaaaGreatDoor

namespace Go.Proofs.YtammmecddnafaaaGreatDoor
open Go.RowKit

def crc1 (x : Nat) : Nat := if x % 2 = 1 then (x / 2) ^^^ 2197175160 else x / 2
def crcN : Nat → Nat → Nat
  | 0, x => x
  | n + 1, x => crc1 (crcN n x)
def crcL (l : List Int) : Nat := l.foldl (fun x b => crcN 8 (x ^^^ b.toNat)) 4294967295

theorem crc1_lt (x : Nat) (h : x < 4294967296) : crc1 x < 4294967296 := by
  unfold crc1
  split
  · have : x / 2 ^^^ 2197175160 < 2 ^ 32 := Nat.xor_lt_two_pow (by omega) (by omega)
    omega
  · omega
theorem crcN_lt (n x : Nat) (h : x < 4294967296) : crcN n x < 4294967296 := by
  induction n with
  | zero => exact h
  | succ n ih => exact crc1_lt _ ih
theorem xor_lt32 (a b : Nat) (ha : a < 4294967296) (hb : b < 4294967296) : a ^^^ b < 4294967296 := by
  have : a ^^^ b < 2 ^ 32 := Nat.xor_lt_two_pow (by omega) (by omega)
  omega
theorem crcL_snoc (l : List Int) (b : Int) : crcL (l ++ [b]) = crcN 8 (crcL l ^^^ b.toNat) := by simp [crcL, List.foldl_append]
theorem crcF_lt (l : List Int) : ∀ x, x < 4294967296 → (∀ n ∈ l, 0 ≤ n ∧ n ≤ 255) → l.foldl (fun x b => crcN 8 (x ^^^ b.toNat)) x < 4294967296 := by
  induction l with
  | nil => intro x hx _; simpa using hx
  | cons b l ih =>
    intro x hx h
    have hb := h b (by simp)
    rw [List.foldl_cons]
    exact ih _ (crcN_lt _ _ (xor_lt32 _ _ hx (by omega))) (fun n hn => h n (by simp [hn]))
theorem crcL_lt (l : List Int) (h : ∀ n ∈ l, 0 ≤ n ∧ n ≤ 255) : crcL l < 4294967296 := crcF_lt l _ (by omega) h
theorem take_snoc (zs : List Int) (j : Nat) (h : j < zs.length) : zs.take (j + 1) = zs.take j ++ [zs.getD j 0] := by
  rw [List.take_add_one, List.getD_eq_getElem?_getD, List.getElem?_eq_getElem h]
  rfl

theorem u32_xor_int (a : Nat) (b : Int) (ha : a < 4294967296) (hb : 0 ≤ b) (hb2 : b < 4294967296) : bits .xor .u32 (a : Int) b = ((a ^^^ b.toNat : Nat) : Int) := by
  obtain ⟨B, rfl⟩ := Int.eq_ofNat_of_zero_le hb
  rw [Int.toNat_natCast]
  exact u32_xor_nat a B ha (by omega)
theorem i64_xor_int (a : Nat) (b : Int) (ha : a < 4294967296) (hb : 0 ≤ b) (hb2 : b < 4294967296) : bits .xor .i64 (a : Int) b = ((a ^^^ b.toNat : Nat) : Int) := by
  obtain ⟨B, rfl⟩ := Int.eq_ofNat_of_zero_le hb
  rw [Int.toNat_natCast]
  exact i64_xor_nat a B (by omega) (by omega)
theorem u32_and1 (a : Nat) (ha : a < 4294967296) : bits .and .u32 (a : Int) 1 = (a : Int) % 2 := by
  have := u32_and_nat a 1 ha (by omega)
  rw [show ((1 : Nat) : Int) = 1 from rfl] at this
  rw [this, Nat.and_one_is_mod]
  omega
theorem i64_and1 (a : Nat) (ha : a < 4294967296) : bits .and .i64 (a : Int) 1 = (a : Int) % 2 := by
  have := i64_and_nat a 1 (by omega) (by omega)
  rw [show ((1 : Nat) : Int) = 1 from rfl] at this
  rw [this, Nat.and_one_is_mod]
  omega
theorem half_cast (a : Nat) : (a : Int) / 2 = ((a / 2 : Nat) : Int) := by omega
theorem u32_turn (a : Nat) (ha : a < 4294967296) : bits .xor .u32 ((a : Int) / 2) 2197175160 = ((a / 2 ^^^ 2197175160 : Nat) : Int) := by
  rw [half_cast]
  exact u32_xor_int (a / 2) 2197175160 (by omega) (by omega) (by omega)
theorem i64_turn (a : Nat) (ha : a < 4294967296) : bits .xor .i64 ((a : Int) / 2) 2197175160 = ((a / 2 ^^^ 2197175160 : Nat) : Int) := by
  rw [half_cast]
  exact i64_xor_int (a / 2) 2197175160 (by omega) (by omega) (by omega)

theorem u32_not (a : Nat) (ha : a < 4294967296) : bits .xor .u32 IntKind.u32.max (a : Int) = ((a ^^^ 4294967295 : Nat) : Int) := by
  have e : IntKind.u32.max = ((4294967295 : Nat) : Int) := by decide
  rw [e, u32_xor_nat _ _ (by omega) ha, Nat.xor_comm]

end Go.Proofs.YtammmecddnafaaaGreatDoor

namespace Go.Proofs.YtammmecddnafaaaGreatDoor
open Go.RowKit
set_option linter.unusedVariables false

/-- A byte that may stand in an upload's name. -/
def idC (b : UInt8) : Bool := (decide (97 ≤ b.toNat) && decide (b.toNat ≤ 122)) || (decide (48 ≤ b.toNat) && decide (b.toNat ≤ 57))

/-- Whether a text is an upload's name. -/
def idB (s : List UInt8) : Bool := s.all idC && decide (1 ≤ s.length ∧ s.length ≤ 8)

/-- The greatest number of an op; -1: it has none. -/
def mostR (op : Int) : Int := if op = 1 ∨ op = 3 then 1000000000 else if op = 4 then 4294967295 else -1

/-- Whether a request is right. -/
def reqB (op : Int) (s : List UInt8) (n : Int) : Bool := decide (1 ≤ op ∧ op ≤ 6) && idB s && (if mostR op < 0 then n == 0 else decide (0 ≤ n ∧ n ≤ mostR op))

/-- Whether an answer is right. -/
def respB (st off : Int) : Bool := decide (100 ≤ st ∧ st ≤ 599) && decide (-1 ≤ off ∧ off ≤ 1000000000)

theorem idB_long {s : List UInt8} (h : ¬ (1 ≤ s.length ∧ s.length ≤ 8)) : idB s = false := by rw [idB, decide_eq_false h, Bool.and_false]

theorem idB_bad {s : List UInt8} {k : Nat} (hk : k < s.length) (h : idC s[k] = false) : idB s = false := by
  rw [idB, Bool.and_eq_false_iff]
  refine .inl ?_
  rw [List.all_eq_false]
  exact ⟨s[k], List.getElem_mem hk, by simp [h]⟩

theorem idB_good {s : List UInt8} (h : ∀ k (hk : k < s.length), idC s[k] = true) : idB s = decide (1 ≤ s.length ∧ s.length ≤ 8) := by
  have : s.all idC = true := by
    rw [List.all_eq_true]
    intro x hx
    obtain ⟨k, hk, rfl⟩ := List.mem_iff_getElem.1 hx
    exact h k hk
  rw [idB, this, Bool.true_and]

end Go.Proofs.YtammmecddnafaaaGreatDoor

namespace Go.Proofs.YtammmecddnafaaaGreatDoor
open Go.RowKit
set_option linter.unusedVariables false

/-- The bytes of a text. -/
def txI (s : ByteArray) : List Int := s.data.toList.map fun b => (b.toNat : Int)

/-- The text of bytes. -/
def txU (zs : List Int) : ByteArray := ⟨(zs.map fun z => UInt8.ofNat z.toNat).toArray⟩

theorem txI_len (s : ByteArray) : (txI s).length = s.size := by simp [txI]

theorem txI_range (s : ByteArray) : ∀ x ∈ txI s, 0 ≤ x ∧ x ≤ 255 := by
  intro x hx
  obtain ⟨b, _, rfl⟩ := List.mem_map.1 hx
  have := b.toNat_lt
  omega

theorem txU_size (zs : List Int) : (txU zs).size = zs.length := by simp [txU, ByteArray.size]

theorem txU_txI (s : ByteArray) : txU (txI s) = s := by
  have h : (txI s).map (fun z => UInt8.ofNat z.toNat) = s.data.toList := by
    rw [txI, List.map_map]
    conv => rhs; rw [← List.map_id s.data.toList]
    refine List.map_congr_left fun b _ => ?_
    simp
  rw [txU, h]

theorem txI_txU (zs : List Int) (h : ∀ z ∈ zs, 0 ≤ z ∧ z ≤ 255) : txI (txU zs) = zs := by
  rw [txI, txU]
  simp only [List.map_map]
  conv => rhs; rw [← List.map_id zs]
  refine List.map_congr_left fun z hz => ?_
  have := h z hz
  simp
  omega

theorem txI_inj {s t : ByteArray} (h : txI s = txI t) : s = t := by rw [← txU_txI s, h, txU_txI]

/-- A record. -/
structure R where
  e : Int
  q : Int
  k : Int
  id : ByteArray
  n : Int
  zs : List Int

/-- Whether the number and so many bytes of data fit the kind. -/
def kindB (k n : Int) (d : Nat) : Bool :=
  if k = 1 then decide (0 ≤ n ∧ n ≤ 1000000000) && decide (d = 0)
  else if k = 2 then decide (0 ≤ n ∧ n ≤ 1000000000) && decide (1 ≤ d ∧ d ≤ 24)
  else if k = 3 ∨ k = 4 then decide (n = 0) && decide (d = 0) else false

/-- Whether a record is right. -/
def okRec (e q k : Int) (id : ByteArray) (n : Int) (d : Nat) : Bool :=
  (decide (0 ≤ e ∧ e ≤ 10000) && decide (0 ≤ q ∧ q ≤ 199) && idB id.data.toList) && kindB k n d

def R.ok (r : R) : Bool := okRec r.e r.q r.k r.id r.n r.zs.length

theorem okRec_iff {e q k : Int} {id : ByteArray} {n : Int} {d : Nat} (h : okRec e q k id n d = true) : (0 ≤ e ∧ e ≤ 10000) ∧ (0 ≤ q ∧ q ≤ 199) ∧ (1 ≤ k ∧ k ≤ 4) ∧ (1 ≤ id.size ∧ id.size ≤ 8) ∧ (0 ≤ n ∧ n ≤ 1000000000) ∧ d ≤ 24 := by
  simp only [okRec, idB, Bool.and_eq_true, decide_eq_true_eq, Array.length_toList] at h
  obtain ⟨⟨⟨h1, h2⟩, h3⟩, h4⟩ := h
  have hk : (1 ≤ k ∧ k ≤ 4) ∧ (0 ≤ n ∧ n ≤ 1000000000) ∧ d ≤ 24 := by
    unfold kindB at h4
    split at h4
    · simp only [Bool.and_eq_true, decide_eq_true_eq] at h4
      omega
    · split at h4
      · simp only [Bool.and_eq_true, decide_eq_true_eq] at h4
        omega
      · split at h4
        · simp only [Bool.and_eq_true, decide_eq_true_eq] at h4
          omega
        · cases h4
  exact ⟨h1, h2, hk.1, h3.2, hk.2.1, hk.2.2⟩

/-- The bytes of a record ahead of its sum. -/
def headR (e q k : Nat) (id : ByteArray) : List Int := pbl e 3 3 ++ pbl q 2 2 ++ pbl k 1 1 ++ pbl id.size 1 1 ++ txI id
def recB (e q k : Nat) (id : ByteArray) (n : Nat) (zs : List Int) : List Int := headR e q k id ++ pbl n 4 4 ++ pbl zs.length 1 1 ++ zs

def R.body (r : R) : List Int := recB r.e.toNat r.q.toNat r.k.toNat r.id r.n.toNat r.zs

/-- The bytes of a record. -/
def sumB (l : List Int) : List Int := l ++ pbl (crcL l ^^^ 4294967295) 4 4
def R.put (r : R) : List Int := sumB r.body

/-- The text of a record; nothing of what is not right. -/
def putT (e q k : Int) (id : ByteArray) (n : Int) (zs : List Int) : ByteArray := if okRec e q k id n zs.length then txU (sumB (recB e.toNat q.toNat k.toNat id n.toNat zs)) else ⟨#[]⟩

theorem headR_len (e q k : Nat) (id : ByteArray) : (headR e q k id).length = 7 + id.size := by
  simp only [headR, List.length_append, pbl_len, txI_len]

theorem recB_len (e q k : Nat) (id : ByteArray) (n : Nat) (zs : List Int) : (recB e q k id n zs).length = 12 + id.size + zs.length := by
  simp only [recB, List.length_append, pbl_len, headR_len]
  omega

theorem put_len (r : R) : r.put.length = 16 + r.id.size + r.zs.length := by
  rw [R.put, sumB, List.length_append, pbl_len, R.body, recB_len]
  omega

theorem headR_range (e q k : Nat) (id : ByteArray) : ∀ x ∈ headR e q k id, 0 ≤ x ∧ x ≤ 255 := by
  intro x hx
  simp only [headR, List.mem_append] at hx
  rcases hx with (((h | h) | h) | h) | h
  · exact pbl_range _ _ _ x h
  · exact pbl_range _ _ _ x h
  · exact pbl_range _ _ _ x h
  · exact pbl_range _ _ _ x h
  · exact txI_range _ x h

theorem recB_range (e q k : Nat) (id : ByteArray) (n : Nat) (zs : List Int) (h : ∀ x ∈ zs, 0 ≤ x ∧ x ≤ 255) : ∀ x ∈ recB e q k id n zs, 0 ≤ x ∧ x ≤ 255 := by
  intro x hx
  simp only [recB, List.mem_append] at hx
  rcases hx with ((h1 | h1) | h1) | h1
  · exact headR_range _ _ _ _ x h1
  · exact pbl_range _ _ _ x h1
  · exact pbl_range _ _ _ x h1
  · exact h x h1

theorem sumB_range (l : List Int) (h : ∀ x ∈ l, 0 ≤ x ∧ x ≤ 255) : ∀ x ∈ sumB l, 0 ≤ x ∧ x ≤ 255 := by
  intro x hx
  rcases List.mem_append.1 hx with h1 | h1
  · exact h x h1
  · exact pbl_range _ _ _ x h1

theorem gbOneR (M : Nat) (h : M ≤ 255) : gb (pbl M 1 1) = (M : Int) := by
  simp [gb, pbl, byteOf]; omega
theorem gbTwoR (M : Nat) (h : M ≤ 65535) : gb (pbl M 2 2) = (M : Int) := by
  simp [gb, pbl, byteOf, List.range, List.range.loop]; omega
theorem gbThreeR (M : Nat) (h : M ≤ 16777215) : gb (pbl M 3 3) = (M : Int) := by
  simp [gb, pbl, byteOf, List.range, List.range.loop]; omega
theorem gbFourR (M : Nat) (h : M ≤ 4294967295) : gb (pbl M 4 4) = (M : Int) := by
  simp [gb, pbl, byteOf, List.range, List.range.loop]; omega

/-- How long the name is, of a record's bytes. -/
def idN (l : List Int) : Nat := (gb ((l.drop 6).take 1)).toNat
def dataN (l : List Int) : Nat := (gb ((l.drop (11 + idN l)).take 1)).toNat

/-- The record that bytes tell. -/
def parseR (l : List Int) : R :=
  ⟨gb (l.take 3), gb ((l.drop 3).take 2), gb ((l.drop 5).take 1), txU ((l.drop 7).take (idN l)), gb ((l.drop (7 + idN l)).take 4), (l.drop (12 + idN l)).take (dataN l)⟩

theorem drop_app (a b : List Int) (k : Nat) (h : a.length = k) : (a ++ b).drop k = b := by subst h; simp
theorem take_app (a b : List Int) (k : Nat) (h : a.length = k) : (a ++ b).take k = a := by subst h; simp

/-- What is told of a record's bytes, whatever stands behind them. -/
theorem parse_back (e q k : Nat) (id : ByteArray) (n : Nat) (zs t : List Int) (he : e ≤ 16777215) (hq : q ≤ 65535) (hk : k ≤ 255) (hi : id.size ≤ 255) (hn : n ≤ 4294967295) (hz : zs.length ≤ 255) :
    idN (recB e q k id n zs ++ t) = id.size ∧ dataN (recB e q k id n zs ++ t) = zs.length ∧ parseR (recB e q k id n zs ++ t) = ⟨e, q, k, id, n, zs⟩ := by
  have d0 : recB e q k id n zs ++ t = pbl e 3 3 ++ (pbl q 2 2 ++ (pbl k 1 1 ++ (pbl id.size 1 1 ++ (txI id ++ (pbl n 4 4 ++ (pbl zs.length 1 1 ++ (zs ++ t))))))) := by simp [recB, headR]
  generalize recB e q k id n zs ++ t = l at *
  have d3 : l.drop 3 = pbl q 2 2 ++ (pbl k 1 1 ++ (pbl id.size 1 1 ++ (txI id ++ (pbl n 4 4 ++ (pbl zs.length 1 1 ++ (zs ++ t)))))) := by rw [d0, drop_app _ _ 3 (pbl_len _ _ _)]
  have d5 : l.drop 5 = pbl k 1 1 ++ (pbl id.size 1 1 ++ (txI id ++ (pbl n 4 4 ++ (pbl zs.length 1 1 ++ (zs ++ t))))) := by rw [show 5 = 3 + 2 from rfl, ← List.drop_drop, d3, drop_app _ _ 2 (pbl_len _ _ _)]
  have d6 : l.drop 6 = pbl id.size 1 1 ++ (txI id ++ (pbl n 4 4 ++ (pbl zs.length 1 1 ++ (zs ++ t)))) := by rw [show 6 = 5 + 1 from rfl, ← List.drop_drop, d5, drop_app _ _ 1 (pbl_len _ _ _)]
  have d7 : l.drop 7 = txI id ++ (pbl n 4 4 ++ (pbl zs.length 1 1 ++ (zs ++ t))) := by rw [show 7 = 6 + 1 from rfl, ← List.drop_drop, d6, drop_app _ _ 1 (pbl_len _ _ _)]
  have dn : l.drop (7 + id.size) = pbl n 4 4 ++ (pbl zs.length 1 1 ++ (zs ++ t)) := by rw [← List.drop_drop, d7, drop_app _ _ id.size (txI_len _)]
  have dd : l.drop (11 + id.size) = pbl zs.length 1 1 ++ (zs ++ t) := by rw [show 11 + id.size = 7 + id.size + 4 by omega, ← List.drop_drop, dn, drop_app _ _ 4 (pbl_len _ _ _)]
  have dz : l.drop (12 + id.size) = zs ++ t := by rw [show 12 + id.size = 11 + id.size + 1 by omega, ← List.drop_drop, dd, drop_app _ _ 1 (pbl_len _ _ _)]
  have hid : idN l = id.size := by rw [idN, d6, take_app _ _ 1 (pbl_len _ _ _), gbOneR _ hi, Int.toNat_natCast]
  have hdn : dataN l = zs.length := by rw [dataN, hid, dd, take_app _ _ 1 (pbl_len _ _ _), gbOneR _ hz, Int.toNat_natCast]
  refine ⟨hid, hdn, ?_⟩
  rw [parseR, hid, hdn, d3, d5, d7, dn, dz, take_app _ _ 2 (pbl_len _ _ _), take_app _ _ 1 (pbl_len _ _ _), take_app _ _ id.size (txI_len _), take_app _ _ 4 (pbl_len _ _ _), take_app _ _ zs.length rfl, txU_txI, gbTwoR _ hq, gbOneR _ hk, gbFourR _ hn, d0, take_app _ _ 3 (pbl_len _ _ _), gbThreeR _ he]

theorem parse_put {r : R} (h : r.ok = true) (t : List Int) : idN (r.body ++ t) = r.id.size ∧ dataN (r.body ++ t) = r.zs.length ∧ parseR (r.body ++ t) = r := by
  obtain ⟨he, hq, hk, hi, hn, hd⟩ := okRec_iff h
  obtain ⟨e, q, k, id, n, zs⟩ := r
  dsimp only at he hq hk hi hn hd
  obtain ⟨E, rfl⟩ := Int.eq_ofNat_of_zero_le he.1
  obtain ⟨Q, rfl⟩ := Int.eq_ofNat_of_zero_le hq.1
  obtain ⟨K, rfl⟩ := Int.eq_ofNat_of_zero_le (show 0 ≤ k by omega)
  obtain ⟨M, rfl⟩ := Int.eq_ofNat_of_zero_le hn.1
  have hb := parse_back E Q K id M zs t (by omega) (by omega) (by omega) (by omega) (by omega) (by omega)
  simpa [R.body] using hb

/-- Which record a text is. -/
def recOf (s : ByteArray) : Option R := if (parseR (txI s)).ok = true ∧ (parseR (txI s)).put = txI s then some (parseR (txI s)) else none

theorem recOf_iff {s : ByteArray} {r : R} : recOf s = some r ↔ r.ok = true ∧ r.put = txI s := by
  constructor
  · intro h
    rw [recOf] at h
    split at h
    · injection h with h
      subst h
      assumption
    · cases h
  · rintro ⟨h1, h2⟩
    have hp : parseR (txI s) = r := by rw [← h2]; exact (parse_put h1 _).2.2
    rw [recOf, hp, if_pos ⟨h1, h2⟩]

theorem recOf_none {s : ByteArray} (h : ¬ ((parseR (txI s)).ok = true ∧ (parseR (txI s)).put = txI s)) : recOf s = none := if_neg h

theorem recOf_parse {s : ByteArray} (h1 : (parseR (txI s)).ok = true) (h2 : (parseR (txI s)).put = txI s) : recOf s = some (parseR (txI s)) := if_pos ⟨h1, h2⟩

/-- A text that is a record is long enough. -/
theorem recOf_len {s : ByteArray} (h : recOf s ≠ none) : 16 ≤ s.size ∧ 16 + idN (txI s) + dataN (txI s) = s.size ∧ s.size ≤ 48 := by
  cases hr : recOf s with
  | none => exact absurd hr h
  | some r =>
    obtain ⟨h1, h2⟩ := recOf_iff.1 hr
    obtain ⟨p1, p2, _⟩ := parse_put h1 (pbl (crcL r.body ^^^ 4294967295) 4 4)
    have hl := put_len r
    obtain ⟨_, _, _, hi, _, hd⟩ := okRec_iff h1
    rw [show r.body ++ pbl (crcL r.body ^^^ 4294967295) 4 4 = r.put from rfl, h2] at p1 p2
    rw [h2, txI_len] at hl
    omega

end Go.Proofs.YtammmecddnafaaaGreatDoor

namespace Go.Proofs.YtammmecddnafaaaGreatDoor
open Go.RowKit
set_option linter.unusedVariables false

/-- Where the upload with a name stands. -/
def atU (l : List U) (id : ByteArray) : Option Nat := l.findIdx? fun u => decide (u.id = id)

def atI (l : List U) (id : ByteArray) : Int := match atU l id with
  | some k => (k : Int)
  | none => -1

theorem atU_none {l : List U} {id : ByteArray} (h : ∀ k (hk : k < l.length), (l[k]).id ≠ id) : atU l id = none := by
  rw [atU, List.findIdx?_eq_none_iff]
  intro x hx
  obtain ⟨k, hk, rfl⟩ := List.getElem_of_mem hx
  exact decide_eq_false (h k hk)

theorem atU_some {l : List U} {id : ByteArray} {k : Nat} (hk : k < l.length) (h1 : (l[k]).id = id) (h2 : ∀ j (hj : j < l.length), j < k → (l[j]).id ≠ id) : atU l id = some k := by
  rw [atU, List.findIdx?_eq_some_iff_getElem]
  exact ⟨hk, decide_eq_true h1, fun j hj => by simpa using h2 j (by omega) hj⟩

theorem atU_is {l : List U} {id : ByteArray} {k : Nat} (h : atU l id = some k) : ∃ hk : k < l.length, (l[k]).id = id := by
  rw [atU, List.findIdx?_eq_some_iff_getElem] at h
  obtain ⟨hk, h1, _⟩ := h
  exact ⟨hk, by simpa using h1⟩

/-- Whether a name is above another. -/
def gtS (x y : ByteArray) : Bool := !(Op.bytesLess x.toList y.toList || x.toList == y.toList)

/-- Where one with a name is put: behind the last of the first k that is not above it. -/
def insK (l : List U) (id : ByteArray) : Nat → Nat
  | 0 => 0
  | k + 1 => match l[k]? with
    | some u => if gtS u.id id = true then insK l id k else k + 1
    | none => k + 1

theorem insK_le (l : List U) (id : ByteArray) : ∀ k, insK l id k ≤ k := by
  intro k
  induction k with
  | zero => exact Nat.le_refl _
  | succ k ih =>
    rw [insK]
    split
    · split
      · omega
      · exact Nat.le_refl _
    · exact Nat.le_refl _

theorem insK_down {l : List U} {id : ByteArray} {k : Nat} {u : U} (h : l[k]? = some u) (hlt : gtS u.id id = true) : insK l id (k + 1) = insK l id k := by rw [insK, h]; exact if_pos hlt
theorem insK_stop {l : List U} {id : ByteArray} {k : Nat} {u : U} (h : l[k]? = some u) (hlt : ¬ gtS u.id id = true) : insK l id (k + 1) = k + 1 := by rw [insK, h]; exact if_neg hlt

/-- An upload is put in order. -/
def makeU (l : List U) (u : U) : List U := l.take (insK l u.id l.length) ++ u :: l.drop (insK l u.id l.length)

/-- What a record makes; none: it does not fit. -/
def oneU (l : List U) (r : R) : Option (List U) :=
  if r.k = 1 then (if atU l r.id = none ∧ l.length < 10 then some (makeU l ⟨r.id, r.n, [], false⟩) else none)
  else match atU l r.id with
    | none => none
    | some k => match l[k]? with
      | none => none
      | some u =>
        if r.k = 2 then (if u.done = true ∨ r.n ≠ (u.zs.length : Int) ∨ u.want < r.n + (r.zs.length : Int) then none else some (l.set k { u with zs := u.zs ++ r.zs }))
        else if r.k = 3 then (if u.done = true ∨ (u.zs.length : Int) ≠ u.want then none else some (l.set k { u with done := true }))
        else if r.k = 4 then some (l.eraseIdx k) else none

/-- What records make. -/
def foldU (rs : List R) : Option (List U) := rs.foldlM oneU []

theorem foldU_step (rs : List R) (k : Nat) (r : R) (h : rs[k]? = some r) : foldU (rs.take (k + 1)) = (foldU (rs.take k)).bind fun l => oneU l r := by
  rw [List.take_add_one, h, foldU, foldU, List.foldlM_append]
  simp [List.foldlM]

/-- Once nothing fits, nothing does. -/
theorem foldU_stop (rs : List R) (k : Nat) (h : foldU (rs.take k) = none) : foldU rs = none := by
  have e : rs = rs.take k ++ rs.drop k := (List.take_append_drop k rs).symm
  rw [e, foldU, List.foldlM_append]
  rw [foldU] at h
  rw [h]
  rfl

theorem makeU_len (l : List U) (u : U) : (makeU l u).length = l.length + 1 := by
  have := insK_le l u.id l.length
  simp [makeU]
  omega

theorem oneU_len {l l' : List U} {r : R} (h : oneU l r = some l') : l'.length ≤ l.length ∨ l'.length ≤ 10 := by
  rw [oneU] at h
  split at h
  · split at h
    · rename_i hc
      injection h with h
      rw [← h, makeU_len]
      omega
    · cases h
  · split at h
    · cases h
    · split at h
      · cases h
      · split at h
        · split at h
          · cases h
          · injection h with h; rw [← h]; left; simp
        · split at h
          · split at h
            · cases h
            · injection h with h; rw [← h]; left; simp
          · split at h
            · injection h with h; rw [← h]; left; exact List.length_eraseIdx_le ..
            · cases h

end Go.Proofs.YtammmecddnafaaaGreatDoor

namespace Go.Proofs.YtammmecddnafaaaGreatDoor
open Go.RowKit
set_option linter.unusedVariables false

theorem ids_eq (s t : ByteArray) : (s.toList == t.toList) = decide (s = t) := by
  rw [Bool.eq_iff_iff, beq_iff_eq, decide_eq_true_eq, Lib.toList_data, Lib.toList_data]
  constructor
  · intro h
    cases s
    cases t
    exact congrArg ByteArray.mk (Array.toList_inj.1 h)
  · intro h; rw [h]

end Go.Proofs.YtammmecddnafaaaGreatDoor

namespace Go.Proofs.YtammmecddnafaaaGreatDoor
open Go.RowKit
set_option linter.unusedVariables false

/-- The program's key: an upload's name. -/
theorem implKeyU_any (p : ByteArray) (q : Int) (a : Option Addr) (n c : Nat) (b : Bool) (w : World) : Calls Tryz.prog 144 #[.agg #[.string p, .int .i64 q, .slice a n c, .bool b]] w fun e w' => e = .returned (.string p) ∧ Below w.heap.size w w' := by
  have HB : Hid (Below w.heap.size w (w.alloc (.cells #[.string p, .int .i64 q, .slice a n c, .bool b] 69))) := (Below.refl _ _).alloc (Nat.le_refl _) _
  go_enter Tryz.func144, Tryz.ntmps144
  go_wp2_with fail
  go_ret
  exact ⟨rfl, HB.out⟩

/-- The method by which an upload is asked for its key. -/
theorem keyMU (p : ByteArray) (q : Int) (a : Option Addr) (n c : Nat) (b : Bool) (w : World) : Sem.run Tryz.prog (Go.method 272 69 (.agg #[.string p, .int .i64 q, .slice a n c, .bool b]) "loop.example/g00199/impl.key") w = .ok (144, .agg #[.string p, .int .i64 q, .slice a n c, .bool b]) w := by kernel_rfl

/-- The upload that is reached: its place in memory, or none. -/
def reachUO (a : Option Addr) (k : Option Nat) : Option Addr :=
  match a, k with
  | some ad, some k => some ⟨ad.block, k * 4, none⟩
  | _, _ => none

theorem reachUO_none (a : Option Addr) : reachUO a none = none := by cases a <;> rfl

set_option maxRecDepth 10000 in
set_option maxHeartbeats 800000 in
theorem implReachU_any (a : Option Addr) (n c lo : Nat) (id : ByteArray) (l : List UE) (w : World) (h : UpRow w lo (.slice a n c) l) (hn : n = l.length) (hl : n ≤ 1099511627776) :
    Calls Tryz.prog 91 #[.slice a n c, .string id] w fun e w' => e = .returned (.pointer (reachUO a (atU (l.map UE.u) id))) ∧ Below w.heap.size w w' := by
  have HR : Hid (∀ W, Below w.heap.size w W → UpRow W lo (.slice a n c) l) := fun W hb => h.stays hb
  have HN : Hid (n = l.length) := hn
  clear h hn
  go_enter Tryz.func91, Tryz.ntmps91
  go_wp2_with fail
  go_loopw [8] (fun v wr => ∃ k : Nat, k ≤ n ∧ v = .int .i64 k ∧ Hid (Below w.heap.size w wr) ∧ Hid (∀ j (hj : j < l.length), j < k → (l[j]).u.id ≠ id)) (fun v _ => n - (intOf v).toNat)
  case atStart => exact ⟨0, Nat.zero_le _, rfl, Below.refl _ _, fun j _ hj => absurd hj (Nat.not_lt_zero _)⟩
  case round =>
    obtain ⟨k, hk, rfl, HB, HJ⟩ := hrel
    by_cases hlt : k < n
    · have hkl : k < l.length := by rw [← HN.out]; exact hlt
      have hki : (k : Int) < (n : Int) := by omega
      obtain ⟨g, rfl, g0, g1, g2, g3, _⟩ := (HR.out _ HB.out).at HN.out hkl
      have he := ids_eq (l[k]).u.id id
      by_cases hid : (l[k]).u.id = id
      · rw [decide_eq_true hid] at he
        have HF : Hid (atU (l.map UE.u) id = some k) := atU_some (k := k) (by simpa using hkl) (by simpa using hid) (fun j hj hjk => by simpa using HJ.out j (by simpa using hj) hjk)
        clear hid HJ HR HN
        generalize l[k] = x at *
        have hkm := keyMU x.u.id x.u.want x.a x.n x.c x.u.done
        go_wp2_with fail
        refine (implKeyU_any x.u.id x.u.want x.a x.n x.c x.u.done _).mono ?_
        rintro e w1 ⟨rfl, hb1⟩
        have HB1 : Hid (Below w.heap.size w w1) := HB.out.trans (hb1.mono HB.out.size)
        clear hb1
        go_wp2_with fail
        go_ret
        exact ⟨by rw [HF.out]; simp [reachUO], HB1.out⟩
      · rw [decide_eq_false hid] at he
        have HJ2 : Hid (∀ j (hj : j < l.length), j < k + 1 → (l[j]).u.id ≠ id) := fun j hj hjk => by
          by_cases e : j = k
          · subst e; exact hid
          · exact HJ.out j hj (by omega)
        clear hid HJ
        generalize l[k] = x at *
        have hkm := keyMU x.u.id x.u.want x.a x.n x.c x.u.done
        go_wp2_with fail
        refine (implKeyU_any x.u.id x.u.want x.a x.n x.c x.u.done _).mono ?_
        rintro e w1 ⟨rfl, hb1⟩
        have HB1 : Hid (Below w.heap.size w w1) := HB.out.trans (hb1.mono HB.out.size)
        clear hb1
        go_wp2_with fail
        go_roundw
        case rel => exact ⟨k + 1, by omega, by go_num, HB1, HJ2⟩
        case measure => simp [intOf]; omega
    · have HF : Hid (atU (l.map UE.u) id = none) := atU_none (fun j hj => by simpa using HJ.out j (by simpa using hj) (by have := HN.out; simp at hj; omega))
      have hkl : n = k := by omega
      clear HJ HR HN
      subst hkl
      go_wp2_with fail
      go_ret
      exact ⟨by rw [HF.out, reachUO_none]; rfl, HB.out⟩

end Go.Proofs.YtammmecddnafaaaGreatDoor

namespace Go.Proofs.YtammmecddnafaaaGreatDoor
open Go.RowKit
set_option linter.unusedVariables false

/-- The variable holds an error. -/
def ErrN (w : World) : Prop := 1 < w.heap.size ∧ ∃ t v, w.cell? ⟨1, 0, none⟩ = some (.iface t v)

theorem ErrN.below {w W : World} (h : ErrN w) (hb : Below w.heap.size w W) : ErrN W := by
  obtain ⟨h1, t, v, h2⟩ := h
  exact ⟨Nat.lt_of_lt_of_le h1 hb.size, t, v, (hb.cell (p := ⟨1, 0, none⟩) h1).trans h2⟩

/-- A call gave up by a panic. -/
def Pan (e : Ending) : Prop := ∃ t v, e = .panicked [{ v := .iface t v, recovered := false }]

theorem mustFit_yes (w : World) : Calls Tryz.prog 111 #[.bool true] w fun e w' => e = .returned (.tuple #[]) ∧ w' = w := by
  go_enter Tryz.func111, Tryz.ntmps111
  go_wp2_with fail
  go_end0
  exact ⟨rfl, rfl⟩

theorem mustFit_no (w : World) (h : ErrN w) : Calls Tryz.prog 111 #[.bool false] w fun e w' => Pan e ∧ w' = w := by
  obtain ⟨_, t, v, hc⟩ := h
  go_enter Tryz.func111, Tryz.ntmps111
  go_wp2_with fail
  exact ⟨rfl, ⟨t, v, rfl⟩, rfl⟩

/-- What must fit does, or it gives up. -/
theorem mustFit_any (b : Bool) (w : World) (h : ErrN w) : Calls Tryz.prog 111 #[.bool b] w fun e w' => ((b = true ∧ e = .returned (.tuple #[])) ∨ (b = false ∧ Pan e)) ∧ w' = w := by
  cases b with
  | true => exact (mustFit_yes w).mono (fun e w' h => ⟨.inl ⟨rfl, h.1⟩, h.2⟩)
  | false => exact (mustFit_no w h).mono (fun e w' h => ⟨.inr ⟨rfl, h.1⟩, h.2⟩)

/-- The upload that must be there is told, or it gave up. -/
def ThereAns (o : Option Nat) (a : Option Addr) (e : Ending) : Prop := (∃ k g, o = some k ∧ a = some ⟨g, 0, none⟩ ∧ e = .returned (.pointer (some ⟨g, k * 4, none⟩))) ∨ (o = none ∧ Pan e)

set_option maxRecDepth 10000 in
set_option maxHeartbeats 800000 in
theorem implThere_any (fb : Nat) (a : Option Addr) (n c lo : Nat) (id : ByteArray) (l : List UE) (w : World) (hf : BoxN w fb 117 [.slice a n c]) (h : UpRow w lo (.slice a n c) l) (hn : n = l.length) (hl : n ≤ 1099511627776) (he : ErrN w) :
    Calls Tryz.prog 116 #[.pointer (some ⟨fb, 0, none⟩), .string id] w fun e w' => ThereAns (atU (l.map UE.u) id) a e ∧ Below w.heap.size w w' := by
  have HE : Hid (ErrN w) := he
  have HR : Hid (Calls Tryz.prog 91 #[.slice a n c, .string id] w fun e w' => e = .returned (.pointer (reachUO a (atU (l.map UE.u) id))) ∧ Below w.heap.size w w') := implReachU_any a n c lo id l w h hn hl
  have f0 := hf.cell 0 rfl
  cases hk : atU (l.map UE.u) id with
  | none =>
    rw [hk, reachUO_none] at HR
    clear hf h hk hn
    go_enter Tryz.func116, Tryz.ntmps116
    go_wp2_with fail
    refine HR.out.mono ?_
    rintro e w1 ⟨rfl, hb1⟩
    have HB1 : Hid (Below w.heap.size w w1) := hb1
    clear hb1
    go_wp2_with fail
    refine (mustFit_no w1 (HE.out.below HB1.out)).mono ?_
    rintro e w2 ⟨⟨t, v, rfl⟩, rfl⟩
    go_wp2_with fail
    exact ⟨rfl, .inr ⟨rfl, t, v, rfl⟩, HB1.out⟩
  | some k =>
    have hkl : k < (l.map UE.u).length := (atU_is hk).1
    obtain ⟨g, hg⟩ : ∃ g, a = some ⟨g, 0, none⟩ := by
      obtain ⟨g, hg, _⟩ := h.at hn (by simpa using hkl)
      exact ⟨g, hg⟩
    rw [hk, hg] at HR
    clear hf h hk hkl hn
    have HR2 : Hid (Calls Tryz.prog 91 #[.slice (some ⟨g, 0, none⟩) n c, .string id] w fun e w' => e = .returned (.pointer (some ⟨g, k * 4, none⟩)) ∧ Below w.heap.size w w') := HR.out
    subst hg
    clear HR
    go_enter Tryz.func116, Tryz.ntmps116
    go_wp2_with fail
    refine HR2.out.mono ?_
    rintro e w1 ⟨rfl, hb1⟩
    have HB1 : Hid (Below w.heap.size w w1) := hb1
    clear hb1
    go_wp2_with fail
    refine (mustFit_yes w1).mono ?_
    rintro e w2 ⟨rfl, rfl⟩
    go_wp2_with fail
    go_ret
    exact ⟨.inl ⟨k, g, rfl, rfl, rfl⟩, HB1.out⟩

end Go.Proofs.YtammmecddnafaaaGreatDoor
