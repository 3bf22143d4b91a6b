/- What the program's ServerOk asks of the answers that wait. What the test of a range answers. What the specification's RespOk answers. Plain arithmetic of the sum: one step, eight steps, a list of bytes; no program in it. Records: what is right, the bytes of one, and which one a text is; no program in it. A list of bytes as what is appended. No program in it. Rows of bytes that grow: an append as a step of a region that draws, PutBig onto a row of the call's own, a row as a text. -/
import Derived.Test.YtclkfjlnhcccdaaGreatDoorM07
import Derived.Test.YtclkfjlnhcccdaaGreatDoorM04
import Derived.Test.YtclkfjlnhcccdaaGreatDoorM12
import Derived.Test.YtclkfjlnhcccdaaGreatDoorM01
import Derived.Test.YtclkfjlnhcccdaaGreatDoorM03
import Derived.Test.YtclkfjlnhcccdaaGreatDoorM02
import Derived.Deep.RegionLaw
import Derived.Laws.IdiomStrings
namespace Go.Proofs.YtclkfjlnhcccdaaGreatDoor
open Go.RowKit
set_option linter.unusedVariables false

/-- Whether an answer is right. -/
def fitsH (h : Hd) : Bool := respB h.2.1 h.2.2

theorem ret_bH {b c : Bool} (h : b = c) : (Ending.returned (.bool b)) = .returned (.bool c) := by rw [h]

set_option maxRecDepth 10000 in
set_option maxHeartbeats 800000 in
theorem implHeldW_any (x0 x1 x2 : Int) (w : World) :
    Calls Tryz.prog 50 #[.agg #[.int .i64 x0, .int .i64 x1, .int .i64 x2]] w fun e w' => e = .returned (.bool (!fitsH (x0, x1, x2))) ∧ Below w.heap.size w w' := by
  have HB : Hid (Below w.heap.size w (w.alloc (.cells #[.int .i64 x0, .int .i64 x1, .int .i64 x2] 67))) := (Below.refl _ _).alloc (Nat.le_refl _) _
  have HC : Hid (∀ W : World, Calls Tryz.prog 82 #[.agg #[.int .i64 x1, .int .i64 x2]] W fun e w' => e = .returned (.bool (fitsH (x0, x1, x2))) ∧ Below W.heap.size W w') := fun W => implRespOk_any x1 x2 W
  obtain ⟨r, hr⟩ : ∃ r, fitsH (x0, x1, x2) = r := ⟨_, rfl⟩
  rw [hr] at HC ⊢
  clear hr
  go_enter Tryz.func50, Tryz.ntmps50
  go_wp2_with fail
  refine (HC.out _).mono ?_
  rintro e w1 ⟨rfl, hb1⟩
  have HB1 : Hid (Below w.heap.size w w1) := HB.out.trans (hb1.mono HB.out.size)
  clear hb1 HB HC
  go_wp2_with fail
  go_ret
  exact ⟨rfl, HB1.out⟩

/-- Whether one of the answers is wrong. -/
def anyH (xs : List Hd) : Bool := !xs.all fitsH

theorem anyH_false {xs : List Hd} (h : ∀ (k : Nat) (x : Hd), xs[k]? = some x → fitsH x = true) : anyH xs = false := by
  have : xs.all fitsH = true := by
    rw [List.all_eq_true]
    intro f hf
    obtain ⟨k, hk, rfl⟩ := List.mem_iff_getElem.1 hf
    exact h k _ (List.getElem?_eq_getElem hk)
  rw [anyH, this]
  rfl

theorem anyH_true {xs : List Hd} {k : Nat} {x : Hd} (h : xs[k]? = some x) (hw : fitsH x = false) : anyH xs = true := by
  have : xs.all fitsH = false := by
    rw [List.all_eq_false]
    exact ⟨x, List.mem_of_getElem? h, by simp [hw]⟩
  rw [anyH, this]
  rfl

set_option maxRecDepth 10000 in
set_option maxHeartbeats 800000 in
theorem implIdxH_any (a : Option Addr) (len cap : Nat) (xs : List Hd) (w : World) (hx : Helds w a len xs) (hl : len ≤ 1099511627776) :
    Calls Tryz.prog 81 #[.slice a len cap, .func (.func 50) #[] #[]] w fun e w' => (∃ k : Int, e = .returned (.int .i64 k) ∧ decide (0 ≤ k) = anyH xs) ∧ Below w.heap.size w w' := by
  have HX : Hid (Helds w a len xs) := hx
  have HL : Hid (xs.length = len) := hx.1
  clear hx
  go_enter Tryz.func81, Tryz.ntmps81
  go_wp2_with fail
  go_loopw [8] (fun v wr => ∃ k : Nat, k ≤ len ∧ v = .int .i64 k ∧ Hid (Below w.heap.size w wr) ∧ Hid (∀ (j : Nat) (x : Hd), j < k → xs[j]? = some x → fitsH x = true)) (fun v _ => len - (intOf v).toNat)
  case atStart => exact ⟨0, Nat.zero_le _, rfl, Below.refl _ _, fun j _ hj => absurd hj (Nat.not_lt_zero _)⟩
  case round =>
    obtain ⟨k, hk, rfl, HB, HN⟩ := hrel
    by_cases hlt : k < len
    · have hki : (k : Int) < (len : Int) := by omega
      obtain ⟨b, off, x0, x1, x2, rfl, hb, hkx, p0, p1, p2, _⟩ := (HX.out.below HB.out).at hlt
      have HK : Hid (xs[k]? = some (x0, x1, x2)) := hkx
      have HO : Hid (∀ W : World, Calls Tryz.prog 50 #[.agg #[.int .i64 x0, .int .i64 x1, .int .i64 x2]] W fun e w' => e = .returned (.bool (!fitsH (x0, x1, x2))) ∧ Below W.heap.size W w') := fun W => implHeldW_any x0 x1 x2 W
      clear hkx
      go_wp2_with fail
      refine (HO.out _).mono ?_
      rintro e w1 ⟨rfl, hb1⟩
      have HB1 : Hid (Below w.heap.size w w1) := HB.out.trans (hb1.mono HB.out.size)
      clear hb1 p0 p1 p2 HB
      cases hpr : fitsH (x0, x1, x2)
      case false =>
        have HE : Hid (anyH xs = true) := anyH_true HK.out hpr
        clear hpr
        go_wp2_with fail
        go_ret
        exact ⟨⟨k, rfl, by rw [HE.out]; simp⟩, HB1.out⟩
      case true =>
        have HN2 : Hid (∀ (j : Nat) (x : Hd), j < k + 1 → xs[j]? = some x → fitsH x = true) := fun j u hj hju => by
          by_cases e : j = k
          · subst e
            rw [HK.out] at hju
            injection hju with e1
            rw [← e1]
            exact hpr
          · exact HN.out j u (by omega) hju
        clear hpr HN
        go_wp2_with fail
        go_roundw
        case rel => exact ⟨k + 1, by omega, by go_num, HB1, HN2⟩
        case measure => simp [intOf]; omega
    · have HE : Hid (anyH xs = false) := anyH_false fun j x hjx => HN.out j x (by have := (List.getElem?_eq_some_iff.1 hjx).1; have := HL.out; omega) hjx
      have hkl : len = k := by omega
      clear HN HX HL
      subst hkl
      go_wp2_with fail
      go_ret
      exact ⟨⟨-1, rfl, by rw [HE.out]; rfl⟩, HB.out⟩

set_option maxRecDepth 10000 in
theorem implAnyHd_any (a : Option Addr) (len cap : Nat) (xs : List Hd) (w : World) (hx : Helds w a len xs) (hl : len ≤ 1099511627776) :
    Calls Tryz.prog 49 #[.slice a len cap, .func (.func 50) #[] #[]] w fun e w' => e = .returned (.bool (anyH xs)) ∧ Below w.heap.size w w' := by
  go_enter Tryz.func49, Tryz.ntmps49
  go_wp2_with fail
  refine (implIdxH_any a len cap xs w hx hl).mono ?_
  rintro e w1 ⟨⟨k, rfl, hk⟩, hb1⟩
  have HK : Hid (decide (0 ≤ k) = anyH xs) := hk
  have HB1 : Hid (Below w.heap.size w w1) := hb1
  clear hk hb1 hx
  go_wp2_with fail
  go_ret
  exact ⟨ret_bH HK.out, HB1.out⟩

end Go.Proofs.YtclkfjlnhcccdaaGreatDoor

namespace Go.Proofs.YtclkfjlnhcccdaaGreatDoor
open Go.RowKit
set_option linter.unusedVariables false

set_option maxHeartbeats 400000 in
theorem l1In_yes (x lo hi : Int) (w : World) (h1 : lo ≤ x) (h2 : x ≤ hi) : Calls Tryz.prog 75 #[.int .i64 x, .int .i64 lo, .int .i64 hi] w fun e w' => e = .returned (.bool true) ∧ w' = w := by
  go_enter Tryz.func75, Tryz.ntmps75
  go_wp2
  go_ret
  exact ⟨rfl, rfl⟩

set_option maxHeartbeats 400000 in
theorem l1In_no (x lo hi : Int) (w : World) (h : x < lo ∨ hi < x) : Calls Tryz.prog 75 #[.int .i64 x, .int .i64 lo, .int .i64 hi] w fun e w' => e = .returned (.bool false) ∧ w' = w := by
  by_cases h1 : x < lo
  · clear h
    go_enter Tryz.func75, Tryz.ntmps75
    go_wp2
    go_ret
    exact ⟨rfl, rfl⟩
  · have h2 : hi < x := by omega
    clear h
    go_enter Tryz.func75, Tryz.ntmps75
    go_wp2
    go_ret
    exact ⟨ret_bool (by simp; omega), rfl⟩

theorem l1In_any (x lo hi : Int) (w : World) : Calls Tryz.prog 75 #[.int .i64 x, .int .i64 lo, .int .i64 hi] w fun e w' => e = .returned (.bool (decide (lo ≤ x ∧ x ≤ hi))) ∧ w' = w := by
  by_cases h : lo ≤ x ∧ x ≤ hi
  · rw [decide_eq_true h]
    exact l1In_yes x lo hi w h.1 h.2
  · rw [decide_eq_false h]
    exact l1In_no x lo hi w (by omega)

end Go.Proofs.YtclkfjlnhcccdaaGreatDoor

namespace Go.Proofs.YtclkfjlnhcccdaaGreatDoor
open Go.RowKit
set_option linter.unusedVariables false

set_option maxRecDepth 10000 in
set_option maxHeartbeats 800000 in
theorem specRespOk_any (st off : Int) (w : World) :
    Calls Tryz.prog 43 #[.agg #[.int .i64 st, .int .i64 off]] w fun e w' => e = .returned (.bool (respB st off)) ∧ Below w.heap.size w w' := by
  have HR : Hid (respB st off = (decide (100 ≤ st ∧ st ≤ 599) && decide (-1 ≤ off ∧ off ≤ 1000000000))) := rfl
  have HB0 : Hid (Below w.heap.size w (w.alloc (.cells #[.int .i64 st, .int .i64 off] 65))) := (Below.refl _ _).alloc (Nat.le_refl _) _
  have hx : (w.alloc (.cells #[.int .i64 st, .int .i64 off] 65)).heap[w.heap.size]? = some (.cells #[.int .i64 st, .int .i64 off] 65 (0, 0)) := heap_alloc_new w _
  go_enter Tryz.func43, Tryz.ntmps43
  go_wp2_with fail
  obtain ⟨w1, hw1⟩ : ∃ w1, w.alloc (.cells #[.int .i64 st, .int .i64 off] 65) = w1 := ⟨_, rfl⟩
  rw [hw1] at HB0 hx ⊢
  clear hw1
  have c0 : w1.cell? ⟨w.heap.size, 0, none⟩ = some (.int .i64 st) := by rw [cell_of_row _ _ _ _ _ _ hx]; rfl
  have c1 : w1.cell? ⟨w.heap.size, 1, none⟩ = some (.int .i64 off) := by rw [cell_of_row _ _ _ _ _ _ hx]; rfl
  clear hx
  refine (l1In_any st 100 599 _).mono ?_
  rintro e w2 ⟨rfl, hw2⟩
  subst hw2
  generalize decide (100 ≤ st ∧ st ≤ 599) = b1 at *
  cases b1
  · go_wp2_with fail
    go_ret
    exact ⟨ret_bool (by rw [HR.out]; rfl), HB0.out⟩
  go_wp2_with fail
  refine (l1In_any off (-1) 1000000000 _).mono ?_
  rintro e w3 ⟨rfl, hw3⟩
  subst hw3
  generalize decide (-1 ≤ off ∧ off ≤ 1000000000) = b2 at *
  go_wp2_with fail
  go_ret
  exact ⟨ret_bool (by rw [HR.out]; rfl), HB0.out⟩

end Go.Proofs.YtclkfjlnhcccdaaGreatDoor

namespace Go.Proofs.YtclkfjlnhcccdaaGreatDoor
open Go.RowKit

def crc1 (x : Nat) : Nat := if x % 2 = 1 then (x / 2) ^^^ 2197175160 else x / 2
def crcN : Nat → Nat → Nat
  | 0, x => x
  | n + 1, x => crc1 (crcN n x)
def crcL (l : List Int) : Nat := l.foldl (fun x b => crcN 8 (x ^^^ b.toNat)) 4294967295

theorem crc1_lt (x : Nat) (h : x < 4294967296) : crc1 x < 4294967296 := by
  unfold crc1
  split
  · have : x / 2 ^^^ 2197175160 < 2 ^ 32 := Nat.xor_lt_two_pow (by omega) (by omega)
    omega
  · omega
theorem crcN_lt (n x : Nat) (h : x < 4294967296) : crcN n x < 4294967296 := by
  induction n with
  | zero => exact h
  | succ n ih => exact crc1_lt _ ih
theorem xor_lt32 (a b : Nat) (ha : a < 4294967296) (hb : b < 4294967296) : a ^^^ b < 4294967296 := by
  have : a ^^^ b < 2 ^ 32 := Nat.xor_lt_two_pow (by omega) (by omega)
  omega
theorem crcL_snoc (l : List Int) (b : Int) : crcL (l ++ [b]) = crcN 8 (crcL l ^^^ b.toNat) := by simp [crcL, List.foldl_append]
theorem crcF_lt (l : List Int) : ∀ x, x < 4294967296 → (∀ n ∈ l, 0 ≤ n ∧ n ≤ 255) → l.foldl (fun x b => crcN 8 (x ^^^ b.toNat)) x < 4294967296 := by
  induction l with
  | nil => intro x hx _; simpa using hx
  | cons b l ih =>
    intro x hx h
    have hb := h b (by simp)
    rw [List.foldl_cons]
    exact ih _ (crcN_lt _ _ (xor_lt32 _ _ hx (by omega))) (fun n hn => h n (by simp [hn]))
theorem crcL_lt (l : List Int) (h : ∀ n ∈ l, 0 ≤ n ∧ n ≤ 255) : crcL l < 4294967296 := crcF_lt l _ (by omega) h
theorem take_snoc (zs : List Int) (j : Nat) (h : j < zs.length) : zs.take (j + 1) = zs.take j ++ [zs.getD j 0] := by
  rw [List.take_add_one, List.getD_eq_getElem?_getD, List.getElem?_eq_getElem h]
  rfl

theorem u32_xor_int (a : Nat) (b : Int) (ha : a < 4294967296) (hb : 0 ≤ b) (hb2 : b < 4294967296) : bits .xor .u32 (a : Int) b = ((a ^^^ b.toNat : Nat) : Int) := by
  obtain ⟨B, rfl⟩ := Int.eq_ofNat_of_zero_le hb
  rw [Int.toNat_natCast]
  exact u32_xor_nat a B ha (by omega)
theorem i64_xor_int (a : Nat) (b : Int) (ha : a < 4294967296) (hb : 0 ≤ b) (hb2 : b < 4294967296) : bits .xor .i64 (a : Int) b = ((a ^^^ b.toNat : Nat) : Int) := by
  obtain ⟨B, rfl⟩ := Int.eq_ofNat_of_zero_le hb
  rw [Int.toNat_natCast]
  exact i64_xor_nat a B (by omega) (by omega)
theorem u32_and1 (a : Nat) (ha : a < 4294967296) : bits .and .u32 (a : Int) 1 = (a : Int) % 2 := by
  have := u32_and_nat a 1 ha (by omega)
  rw [show ((1 : Nat) : Int) = 1 from rfl] at this
  rw [this, Nat.and_one_is_mod]
  omega
theorem i64_and1 (a : Nat) (ha : a < 4294967296) : bits .and .i64 (a : Int) 1 = (a : Int) % 2 := by
  have := i64_and_nat a 1 (by omega) (by omega)
  rw [show ((1 : Nat) : Int) = 1 from rfl] at this
  rw [this, Nat.and_one_is_mod]
  omega
theorem half_cast (a : Nat) : (a : Int) / 2 = ((a / 2 : Nat) : Int) := by omega
theorem u32_turn (a : Nat) (ha : a < 4294967296) : bits .xor .u32 ((a : Int) / 2) 2197175160 = ((a / 2 ^^^ 2197175160 : Nat) : Int) := by
  rw [half_cast]
  exact u32_xor_int (a / 2) 2197175160 (by omega) (by omega) (by omega)
theorem i64_turn (a : Nat) (ha : a < 4294967296) : bits .xor .i64 ((a : Int) / 2) 2197175160 = ((a / 2 ^^^ 2197175160 : Nat) : Int) := by
  rw [half_cast]
  exact i64_xor_int (a / 2) 2197175160 (by omega) (by omega) (by omega)

theorem u32_not (a : Nat) (ha : a < 4294967296) : bits .xor .u32 IntKind.u32.max (a : Int) = ((a ^^^ 4294967295 : Nat) : Int) := by
  have e : IntKind.u32.max = ((4294967295 : Nat) : Int) := by decide
  rw [e, u32_xor_nat _ _ (by omega) ha, Nat.xor_comm]

end Go.Proofs.YtclkfjlnhcccdaaGreatDoor

namespace Go.Proofs.YtclkfjlnhcccdaaGreatDoor
open Go.RowKit
set_option linter.unusedVariables false

/-- The bytes of a text. -/
def txI (s : ByteArray) : List Int := s.data.toList.map fun b => (b.toNat : Int)

/-- The text of bytes. -/
def txU (zs : List Int) : ByteArray := ⟨(zs.map fun z => UInt8.ofNat z.toNat).toArray⟩

theorem txI_len (s : ByteArray) : (txI s).length = s.size := by simp [txI]

theorem txI_range (s : ByteArray) : ∀ x ∈ txI s, 0 ≤ x ∧ x ≤ 255 := by
  intro x hx
  obtain ⟨b, _, rfl⟩ := List.mem_map.1 hx
  have := b.toNat_lt
  omega

theorem txU_size (zs : List Int) : (txU zs).size = zs.length := by simp [txU, ByteArray.size]

theorem txU_txI (s : ByteArray) : txU (txI s) = s := by
  have h : (txI s).map (fun z => UInt8.ofNat z.toNat) = s.data.toList := by
    rw [txI, List.map_map]
    conv => rhs; rw [← List.map_id s.data.toList]
    refine List.map_congr_left fun b _ => ?_
    simp
  rw [txU, h]

theorem txI_txU (zs : List Int) (h : ∀ z ∈ zs, 0 ≤ z ∧ z ≤ 255) : txI (txU zs) = zs := by
  rw [txI, txU]
  simp only [List.map_map]
  conv => rhs; rw [← List.map_id zs]
  refine List.map_congr_left fun z hz => ?_
  have := h z hz
  simp
  omega

theorem txI_inj {s t : ByteArray} (h : txI s = txI t) : s = t := by rw [← txU_txI s, h, txU_txI]

/-- A record. -/
structure R where
  e : Int
  q : Int
  k : Int
  id : ByteArray
  n : Int
  zs : List Int

/-- Whether the number and so many bytes of data fit the kind. -/
def kindB (k n : Int) (d : Nat) : Bool :=
  if k = 1 then decide (0 ≤ n ∧ n ≤ 1000000000) && decide (d = 0)
  else if k = 2 then decide (0 ≤ n ∧ n ≤ 1000000000) && decide (1 ≤ d ∧ d ≤ 24)
  else if k = 3 ∨ k = 4 then decide (n = 0) && decide (d = 0) else false

/-- Whether a record is right. -/
def okRec (e q k : Int) (id : ByteArray) (n : Int) (d : Nat) : Bool :=
  (decide (0 ≤ e ∧ e ≤ 10000) && decide (0 ≤ q ∧ q ≤ 199) && idB id.data.toList) && kindB k n d

def R.ok (r : R) : Bool := okRec r.e r.q r.k r.id r.n r.zs.length

theorem okRec_iff {e q k : Int} {id : ByteArray} {n : Int} {d : Nat} (h : okRec e q k id n d = true) : (0 ≤ e ∧ e ≤ 10000) ∧ (0 ≤ q ∧ q ≤ 199) ∧ (1 ≤ k ∧ k ≤ 4) ∧ (1 ≤ id.size ∧ id.size ≤ 8) ∧ (0 ≤ n ∧ n ≤ 1000000000) ∧ d ≤ 24 := by
  simp only [okRec, idB, Bool.and_eq_true, decide_eq_true_eq, Array.length_toList] at h
  obtain ⟨⟨⟨h1, h2⟩, h3⟩, h4⟩ := h
  have hk : (1 ≤ k ∧ k ≤ 4) ∧ (0 ≤ n ∧ n ≤ 1000000000) ∧ d ≤ 24 := by
    unfold kindB at h4
    split at h4
    · simp only [Bool.and_eq_true, decide_eq_true_eq] at h4
      omega
    · split at h4
      · simp only [Bool.and_eq_true, decide_eq_true_eq] at h4
        omega
      · split at h4
        · simp only [Bool.and_eq_true, decide_eq_true_eq] at h4
          omega
        · cases h4
  exact ⟨h1, h2, hk.1, h3.2, hk.2.1, hk.2.2⟩

/-- The bytes of a record ahead of its sum. -/
def headR (e q k : Nat) (id : ByteArray) : List Int := pbl e 3 3 ++ pbl q 2 2 ++ pbl k 1 1 ++ pbl id.size 1 1 ++ txI id
def recB (e q k : Nat) (id : ByteArray) (n : Nat) (zs : List Int) : List Int := headR e q k id ++ pbl n 4 4 ++ pbl zs.length 1 1 ++ zs

def R.body (r : R) : List Int := recB r.e.toNat r.q.toNat r.k.toNat r.id r.n.toNat r.zs

/-- The bytes of a record. -/
def sumB (l : List Int) : List Int := l ++ pbl (crcL l ^^^ 4294967295) 4 4
def R.put (r : R) : List Int := sumB r.body

/-- The text of a record; nothing of what is not right. -/
def putT (e q k : Int) (id : ByteArray) (n : Int) (zs : List Int) : ByteArray := if okRec e q k id n zs.length then txU (sumB (recB e.toNat q.toNat k.toNat id n.toNat zs)) else ⟨#[]⟩

theorem headR_len (e q k : Nat) (id : ByteArray) : (headR e q k id).length = 7 + id.size := by
  simp only [headR, List.length_append, pbl_len, txI_len]

theorem recB_len (e q k : Nat) (id : ByteArray) (n : Nat) (zs : List Int) : (recB e q k id n zs).length = 12 + id.size + zs.length := by
  simp only [recB, List.length_append, pbl_len, headR_len]
  omega

theorem put_len (r : R) : r.put.length = 16 + r.id.size + r.zs.length := by
  rw [R.put, sumB, List.length_append, pbl_len, R.body, recB_len]
  omega

theorem headR_range (e q k : Nat) (id : ByteArray) : ∀ x ∈ headR e q k id, 0 ≤ x ∧ x ≤ 255 := by
  intro x hx
  simp only [headR, List.mem_append] at hx
  rcases hx with (((h | h) | h) | h) | h
  · exact pbl_range _ _ _ x h
  · exact pbl_range _ _ _ x h
  · exact pbl_range _ _ _ x h
  · exact pbl_range _ _ _ x h
  · exact txI_range _ x h

theorem recB_range (e q k : Nat) (id : ByteArray) (n : Nat) (zs : List Int) (h : ∀ x ∈ zs, 0 ≤ x ∧ x ≤ 255) : ∀ x ∈ recB e q k id n zs, 0 ≤ x ∧ x ≤ 255 := by
  intro x hx
  simp only [recB, List.mem_append] at hx
  rcases hx with ((h1 | h1) | h1) | h1
  · exact headR_range _ _ _ _ x h1
  · exact pbl_range _ _ _ x h1
  · exact pbl_range _ _ _ x h1
  · exact h x h1

theorem sumB_range (l : List Int) (h : ∀ x ∈ l, 0 ≤ x ∧ x ≤ 255) : ∀ x ∈ sumB l, 0 ≤ x ∧ x ≤ 255 := by
  intro x hx
  rcases List.mem_append.1 hx with h1 | h1
  · exact h x h1
  · exact pbl_range _ _ _ x h1

theorem gbOneR (M : Nat) (h : M ≤ 255) : gb (pbl M 1 1) = (M : Int) := by
  simp [gb, pbl, byteOf]; omega
theorem gbTwoR (M : Nat) (h : M ≤ 65535) : gb (pbl M 2 2) = (M : Int) := by
  simp [gb, pbl, byteOf, List.range, List.range.loop]; omega
theorem gbThreeR (M : Nat) (h : M ≤ 16777215) : gb (pbl M 3 3) = (M : Int) := by
  simp [gb, pbl, byteOf, List.range, List.range.loop]; omega
theorem gbFourR (M : Nat) (h : M ≤ 4294967295) : gb (pbl M 4 4) = (M : Int) := by
  simp [gb, pbl, byteOf, List.range, List.range.loop]; omega

/-- How long the name is, of a record's bytes. -/
def idN (l : List Int) : Nat := (gb ((l.drop 6).take 1)).toNat
def dataN (l : List Int) : Nat := (gb ((l.drop (11 + idN l)).take 1)).toNat

/-- The record that bytes tell. -/
def parseR (l : List Int) : R :=
  ⟨gb (l.take 3), gb ((l.drop 3).take 2), gb ((l.drop 5).take 1), txU ((l.drop 7).take (idN l)), gb ((l.drop (7 + idN l)).take 4), (l.drop (12 + idN l)).take (dataN l)⟩

theorem drop_app (a b : List Int) (k : Nat) (h : a.length = k) : (a ++ b).drop k = b := by subst h; simp
theorem take_app (a b : List Int) (k : Nat) (h : a.length = k) : (a ++ b).take k = a := by subst h; simp

/-- What is told of a record's bytes, whatever stands behind them. -/
theorem parse_back (e q k : Nat) (id : ByteArray) (n : Nat) (zs t : List Int) (he : e ≤ 16777215) (hq : q ≤ 65535) (hk : k ≤ 255) (hi : id.size ≤ 255) (hn : n ≤ 4294967295) (hz : zs.length ≤ 255) :
    idN (recB e q k id n zs ++ t) = id.size ∧ dataN (recB e q k id n zs ++ t) = zs.length ∧ parseR (recB e q k id n zs ++ t) = ⟨e, q, k, id, n, zs⟩ := by
  have d0 : recB e q k id n zs ++ t = pbl e 3 3 ++ (pbl q 2 2 ++ (pbl k 1 1 ++ (pbl id.size 1 1 ++ (txI id ++ (pbl n 4 4 ++ (pbl zs.length 1 1 ++ (zs ++ t))))))) := by simp [recB, headR]
  generalize recB e q k id n zs ++ t = l at *
  have d3 : l.drop 3 = pbl q 2 2 ++ (pbl k 1 1 ++ (pbl id.size 1 1 ++ (txI id ++ (pbl n 4 4 ++ (pbl zs.length 1 1 ++ (zs ++ t)))))) := by rw [d0, drop_app _ _ 3 (pbl_len _ _ _)]
  have d5 : l.drop 5 = pbl k 1 1 ++ (pbl id.size 1 1 ++ (txI id ++ (pbl n 4 4 ++ (pbl zs.length 1 1 ++ (zs ++ t))))) := by rw [show 5 = 3 + 2 from rfl, ← List.drop_drop, d3, drop_app _ _ 2 (pbl_len _ _ _)]
  have d6 : l.drop 6 = pbl id.size 1 1 ++ (txI id ++ (pbl n 4 4 ++ (pbl zs.length 1 1 ++ (zs ++ t)))) := by rw [show 6 = 5 + 1 from rfl, ← List.drop_drop, d5, drop_app _ _ 1 (pbl_len _ _ _)]
  have d7 : l.drop 7 = txI id ++ (pbl n 4 4 ++ (pbl zs.length 1 1 ++ (zs ++ t))) := by rw [show 7 = 6 + 1 from rfl, ← List.drop_drop, d6, drop_app _ _ 1 (pbl_len _ _ _)]
  have dn : l.drop (7 + id.size) = pbl n 4 4 ++ (pbl zs.length 1 1 ++ (zs ++ t)) := by rw [← List.drop_drop, d7, drop_app _ _ id.size (txI_len _)]
  have dd : l.drop (11 + id.size) = pbl zs.length 1 1 ++ (zs ++ t) := by rw [show 11 + id.size = 7 + id.size + 4 by omega, ← List.drop_drop, dn, drop_app _ _ 4 (pbl_len _ _ _)]
  have dz : l.drop (12 + id.size) = zs ++ t := by rw [show 12 + id.size = 11 + id.size + 1 by omega, ← List.drop_drop, dd, drop_app _ _ 1 (pbl_len _ _ _)]
  have hid : idN l = id.size := by rw [idN, d6, take_app _ _ 1 (pbl_len _ _ _), gbOneR _ hi, Int.toNat_natCast]
  have hdn : dataN l = zs.length := by rw [dataN, hid, dd, take_app _ _ 1 (pbl_len _ _ _), gbOneR _ hz, Int.toNat_natCast]
  refine ⟨hid, hdn, ?_⟩
  rw [parseR, hid, hdn, d3, d5, d7, dn, dz, take_app _ _ 2 (pbl_len _ _ _), take_app _ _ 1 (pbl_len _ _ _), take_app _ _ id.size (txI_len _), take_app _ _ 4 (pbl_len _ _ _), take_app _ _ zs.length rfl, txU_txI, gbTwoR _ hq, gbOneR _ hk, gbFourR _ hn, d0, take_app _ _ 3 (pbl_len _ _ _), gbThreeR _ he]

theorem parse_put {r : R} (h : r.ok = true) (t : List Int) : idN (r.body ++ t) = r.id.size ∧ dataN (r.body ++ t) = r.zs.length ∧ parseR (r.body ++ t) = r := by
  obtain ⟨he, hq, hk, hi, hn, hd⟩ := okRec_iff h
  obtain ⟨e, q, k, id, n, zs⟩ := r
  dsimp only at he hq hk hi hn hd
  obtain ⟨E, rfl⟩ := Int.eq_ofNat_of_zero_le he.1
  obtain ⟨Q, rfl⟩ := Int.eq_ofNat_of_zero_le hq.1
  obtain ⟨K, rfl⟩ := Int.eq_ofNat_of_zero_le (show 0 ≤ k by omega)
  obtain ⟨M, rfl⟩ := Int.eq_ofNat_of_zero_le hn.1
  have hb := parse_back E Q K id M zs t (by omega) (by omega) (by omega) (by omega) (by omega) (by omega)
  simpa [R.body] using hb

/-- Which record a text is. -/
def recOf (s : ByteArray) : Option R := if (parseR (txI s)).ok = true ∧ (parseR (txI s)).put = txI s then some (parseR (txI s)) else none

theorem recOf_iff {s : ByteArray} {r : R} : recOf s = some r ↔ r.ok = true ∧ r.put = txI s := by
  constructor
  · intro h
    rw [recOf] at h
    split at h
    · injection h with h
      subst h
      assumption
    · cases h
  · rintro ⟨h1, h2⟩
    have hp : parseR (txI s) = r := by rw [← h2]; exact (parse_put h1 _).2.2
    rw [recOf, hp, if_pos ⟨h1, h2⟩]

theorem recOf_none {s : ByteArray} (h : ¬ ((parseR (txI s)).ok = true ∧ (parseR (txI s)).put = txI s)) : recOf s = none := if_neg h

theorem recOf_parse {s : ByteArray} (h1 : (parseR (txI s)).ok = true) (h2 : (parseR (txI s)).put = txI s) : recOf s = some (parseR (txI s)) := if_pos ⟨h1, h2⟩

/-- A text that is a record is long enough. -/
theorem recOf_len {s : ByteArray} (h : recOf s ≠ none) : 16 ≤ s.size ∧ 16 + idN (txI s) + dataN (txI s) = s.size ∧ s.size ≤ 48 := by
  cases hr : recOf s with
  | none => exact absurd hr h
  | some r =>
    obtain ⟨h1, h2⟩ := recOf_iff.1 hr
    obtain ⟨p1, p2, _⟩ := parse_put h1 (pbl (crcL r.body ^^^ 4294967295) 4 4)
    have hl := put_len r
    obtain ⟨_, _, _, hi, _, hd⟩ := okRec_iff h1
    rw [show r.body ++ pbl (crcL r.body ^^^ 4294967295) 4 4 = r.put from rfl, h2] at p1 p2
    rw [h2, txI_len] at hl
    omega

end Go.Proofs.YtclkfjlnhcccdaaGreatDoor

namespace Go.Proofs.YtclkfjlnhcccdaaGreatDoor
open Go.RowKit
set_option linter.unusedVariables false

theorem ownBlock_of (a : Option Addr) (n cap : Nat) : (Value.slice a n cap).ownBlock = a.map (·.block) := by cases a <;> rfl

theorem seg_nil {w : World} {a : Option Addr} {len : Nat} {zs : List Int} (hs : Seg w a len zs) : a = none → len = 0 := by
  intro h
  rcases hs.2.2 with h0 | ⟨b, off, e, _⟩
  · exact h0
  · rw [h] at e; cases e

theorem seg_src {w : World} {a : Option Addr} {len : Nat} {zs : List Int} (hs : Seg w a len zs) : ∀ ad, a = some ad → ∀ j u, (zs.map (Value.int .u8))[j]? = some u → w.cell? (ad.add j) = some u := by
  intro ad ha j u hj
  have hl2 : j < zs.length := by
    by_cases h : j < zs.length
    · exact h
    · rw [List.getElem?_eq_none (by simp; omega)] at hj; cases hj
  rcases hs.2.2 with h | ⟨b, off, h, _⟩
  · have := hs.1; omega
  · rw [ha] at h
    injection h with h
    subst h
    subst ha
    exact cells_ints hs j u hj

end Go.Proofs.YtclkfjlnhcccdaaGreatDoor

namespace Go.Proofs.YtclkfjlnhcccdaaGreatDoor
open Go.RowKit
set_option linter.unusedVariables false

theorem step_append_app {P : Program} {ops : Array Oper} {o : Oper} {a : Act} {w : World} {K : Act → World → Prop} {Q : Exit → Act → World → Prop} {E : Prop} (hgd : o.guard = none) (s x : Operand) (t tx : TypeId)
    (ho : o.op = .call { callee := .builtin .append, args := #[s, x], argTypes := #[t, tx] })
    (base : Nat) (e : TypeId) (i : TypeInfo) (z : Value) (size bytes : Nat) (ht : P.underlying t = some (.slice e)) (hi : P.info? e = some i) (hz : i.zero = some z)
    (hsize : i.size = size) (hby : i.bytes = bytes) (hzs : z.cells.size = size) (hsz : 0 < size)
    (g n cap : Nat) (xs : List Value) (hs : a.eval s = .slice (some ⟨g, 0, none⟩) n cap) (hown : w.ownsRow base e size (.slice (some ⟨g, 0, none⟩) n cap) n xs)
    (u : Value) (m : Nat) (news : List Value) (hx : a.eval x = u) (hsrc : Src P size tx u m news w)
    (h63 : n + m ≤ maxLen) (hbytes : (n + m) * bytes ≤ 140737488355328) (hbase : base ≤ w.heap.size) (M : Nat) (hM : n + m = M) (hM0 : 0 < M) (ys : List Value) (hys : xs ++ news = ys)
    (h : ∀ g' c' w', w'.ownsRow base e size (.slice (some ⟨g', 0, none⟩) M c') M ys → w.grownBy w' (some g) → K (a.put o.dst (.slice (some ⟨g', 0, none⟩) M c')) w') :
    if Region.wanted o (yielded ops a.tmps) = true then Oper.wp P o a w K Q else E := by
  have hw : Region.wanted o (yielded ops a.tmps) = true := by simp [Region.wanted, hgd]
  rw [if_pos hw]
  obtain ⟨v', w', hr, h2, h3⟩ := run_append_any (P := P) w base t tx o.type e i z size bytes ht hi hz hsize hby hzs hsz g n cap xs hown u m news hsrc h63 hbytes hbase
  unfold Oper.wp execOp
  simp only [ho, resolve, invoke, builtin, Sem.run_bind, Sem.run_pure, Result.andThen_ok, List.map_toArray, List.map_cons, List.map_nil, hs, hx, hr]
  rw [hM, hys] at h2
  rcases h2.2 with ⟨_, h0⟩ | ⟨g', c', cur, rfl, _⟩
  · omega
  · exact h g' c' w' h2 h3

theorem owns_low {w : World} {base lo n cap : Nat} {a : Option Addr} {zs : List Int} (h : Owns w base a n cap zs) (hl : lo ≤ base) : Owns w lo a n cap zs := ⟨own_low h.1 hl, h.2⟩

/-- Where a row of some bytes lies. -/
theorem owns_at {w : World} {base n cap : Nat} {a : Option Addr} {zs : List Int} (h : Owns w base a n cap zs) (hn : 0 < n) : ∃ g, a = some ⟨g, 0, none⟩ ∧ base ≤ g ∧ g < w.heap.size := by
  rcases h.1.2 with ⟨_, h0⟩ | ⟨g, cap', cur, he, hb, hg, _⟩
  · omega
  · injection he with e1 _ _
    exact ⟨g, e1, hb, (Array.getElem?_eq_some_iff.1 hg).1⟩

/-- A row of bytes as a text. -/
theorem conv_txt {W : World} {g M c : Nat} {zs : List Int} (h : Seg W (some ⟨g, 0, none⟩) M zs) : (convert 102 9 (.slice (some ⟨g, 0, none⟩) M c)).run Tryz.prog W = .ok (.string (txU zs)) W := by
  have hl : (zs.map fun z => UInt8.ofNat z.toNat).length = M := by rw [List.length_map, h.1]
  have hr := run_convert_bytes_back (P := Tryz.prog) W 102 9 5 ⟨g, 0, none⟩ c (zs.map fun z => UInt8.ofNat z.toNat) Tryz.underlying102 (by kernel_rfl) (by kernel_rfl) (by
    intro j hj
    have hjM : j < M := by omega
    have hp : (⟨g, 0, none⟩ : Addr).add j = ⟨g, j, none⟩ := by unfold Addr.add; split <;> simp_all
    rw [hp]
    rcases h.2.2 with h0 | ⟨b, off, e, _, hc⟩
    · omega
    · injection e with e
      injection e with e1 e2 _
      subst e1 e2
      have := hc j hjM
      rw [Nat.zero_add] at this
      rw [this]
      have hjz : j < zs.length := by rw [h.1]; exact hjM
      have hz := h.2.1 zs[j] (List.getElem_mem hjz)
      rw [List.getD_eq_getElem?_getD, List.getElem?_eq_getElem hjz]
      simp
      omega)
  rw [hl] at hr
  exact hr

/-- A part of bytes. -/
theorem Seg.part7 {w : World} {b len : Nat} {zs : List Int} (h : Seg w (some ⟨b, 0, none⟩) len zs) (T n : Nat) (hT : T + n ≤ len) : Seg w (some ⟨b, T, none⟩) n ((zs.drop T).take n) := by
  obtain ⟨h1, h2, h3⟩ := h
  refine ⟨by simp; omega, fun x hx => h2 x (List.mem_of_mem_drop (List.mem_of_mem_take hx)), ?_⟩
  by_cases hn : n = 0
  · exact .inl hn
  · rcases h3 with h0 | ⟨b', off, e, hb, hc⟩
    · omega
    · injection e with e
      injection e with e1 e2 _
      subst e1 e2
      refine .inr ⟨b, T, rfl, hb, fun i hi => ?_⟩
      have := hc (T + i) (by omega)
      rw [Nat.zero_add] at this
      rw [this]
      simp [List.getD_eq_getElem?_getD, List.getElem?_drop, hi]

/-- A part of bytes as a text. -/
theorem conv_txt_at {W : World} {g o M c : Nat} {zs : List Int} (h : Seg W (some ⟨g, o, none⟩) M zs) : (convert 102 9 (.slice (some ⟨g, o, none⟩) M c)).run Tryz.prog W = .ok (.string (txU zs)) W := by
  have hl : (zs.map fun z => UInt8.ofNat z.toNat).length = M := by rw [List.length_map, h.1]
  have hr := run_convert_bytes_back (P := Tryz.prog) W 102 9 5 ⟨g, o, none⟩ c (zs.map fun z => UInt8.ofNat z.toNat) Tryz.underlying102 (by kernel_rfl) (by kernel_rfl) (by
    intro j hj
    have hjM : j < M := by omega
    have hp : (⟨g, o, none⟩ : Addr).add j = ⟨g, o + j, none⟩ := by unfold Addr.add; split <;> simp_all
    rw [hp]
    rcases h.2.2 with h0 | ⟨b, off, e, _, hc⟩
    · omega
    · injection e with e
      injection e with e1 e2 _
      subst e1 e2
      rw [hc j hjM]
      have hjz : j < zs.length := by rw [h.1]; exact hjM
      have hz := h.2.1 zs[j] (List.getElem_mem hjz)
      rw [List.getD_eq_getElem?_getD, List.getElem?_eq_getElem hjz]
      simp
      omega)
  rw [hl] at hr
  exact hr

theorem Seg.src {W : World} {a : Option Addr} {d c : Nat} {zs : List Int} (hs : Seg W a d zs) : Src Tryz.prog 1 102 (.slice a d c) d (zs.map (Value.int .u8)) W := by
  cases a with
  | none =>
    have h0 : d = 0 := seg_nil hs rfl
    subst h0
    obtain rfl : zs = [] := List.eq_nil_of_length_eq_zero hs.1
    exact Src.ofNil _ Tryz.underlying102 c
  | some ad => exact Src.ofSlice _ Tryz.underlying102 ad d c _ (by rw [List.length_map, hs.1, Nat.mul_one]) (seg_src hs ad rfl) (ints_one zs)

theorem byteCells_txI (s : ByteArray) : byteCells s = (txI s).map (Value.int .u8) := by
  simp [byteCells, txI]

end Go.Proofs.YtclkfjlnhcccdaaGreatDoor
