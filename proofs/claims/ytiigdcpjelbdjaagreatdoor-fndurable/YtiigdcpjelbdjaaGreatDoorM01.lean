/- Plain facts on rows of bytes that a call reads or makes: no statement of the program; no condition. Plain arithmetic of bytes and bits: numbers out of bytes, the bits of small numbers; no program in it. The bytes that PutBig puts, the highest first; no program in it. Rows of bytes that a call has made, and what stays of them; no statement of the program but its table of types. What the draws give: a cursor over the code's bytes that only its own block is written by; numbers of a list; bytes in memory of its own. For codes of at most 2^40 bytes. What is drawn with a cursor: a number below a bound, one of a list, bytes of a drawn number; only the cursor's block is written, and new memory made. For codes of at most 2^40 bytes. -/
import Derived.WalkKit
import Derived.WalkSpells
import Derived.WalkLawsBesides
import Derived.OpenShut
import Derived.Laws.BitsAllLaws
import Derived.Test.YtiigdcpjelbdjaaGreatDoorRows
import Derived.Deep.QuietTactic
import Derived.BigQuiet
import Derived.Laws.CopyOwn
namespace Go.Proofs.YtiigdcpjelbdjaaGreatDoor
open Go.RowKit

/-- The slice (a, len) holds the bytes zs in the world w. -/
def Seg (w : World) (a : Option Addr) (len : Nat) (zs : List Int) : Prop :=
  zs.length = len ∧ (∀ n ∈ zs, 0 ≤ n ∧ n ≤ 255) ∧
  (len = 0 ∨ ∃ b off, a = some ⟨b, off, none⟩ ∧ b < w.heap.size ∧ ∀ i, i < len → w.cell? ⟨b, off + i, none⟩ = some (.int .u8 (zs.getD i 0)))

theorem Seg.below {w w' : World} {a : Option Addr} {len : Nat} {zs : List Int} (h : Seg w a len zs) (hb : Below w.heap.size w w') : Seg w' a len zs := by
  obtain ⟨h1, h2, h3⟩ := h
  refine ⟨h1, h2, ?_⟩
  rcases h3 with h3 | ⟨b, off, rfl, hlt, hc⟩
  · exact .inl h3
  · exact .inr ⟨b, off, rfl, Nat.lt_of_lt_of_le hlt hb.size, fun i hi => (hb.cell (p := ⟨b, off + i, none⟩) hlt).trans (hc i hi)⟩

theorem Seg.ofOwn {w : World} {base g n cap : Nat} {e : TypeId} {zs : List Int} (h : w.ownsRow base e 1 (.slice (some ⟨g, 0, none⟩) n cap) n (zs.map (Value.int .u8))) (hz : ∀ n ∈ zs, 0 ≤ n ∧ n ≤ 255) : Seg w (some ⟨g, 0, none⟩) n zs := by
  have hl : zs.length = n := by have := h.1; simpa using this
  refine ⟨hl, hz, .inr ⟨g, 0, rfl, (h.lt g rfl).2, fun i hi => ?_⟩⟩
  have := h.cellAt i (by omega)
  rw [Nat.zero_add, this]
  rw [List.getElem?_map, List.getD_eq_getElem?_getD, List.getElem?_eq_getElem (by omega)]
  rfl

theorem Seg.range {w : World} {a : Option Addr} {len : Nat} {zs : List Int} (h : Seg w a len zs) (i : Nat) : 0 ≤ zs.getD i 0 ∧ zs.getD i 0 ≤ 255 := by
  rw [List.getD_eq_getElem?_getD]
  cases hi : zs[i]? with
  | none => simp
  | some x => simpa using h.2.1 x (List.mem_of_getElem? hi)

theorem below_own {B : Nat} {w w' : World} (h : Below w.heap.size w w') (hB : B ≤ w.heap.size) {w0 : World} (h0 : Below B w0 w) : Below B w0 w' := h0.trans (h.mono hB)

theorem own_below {w w' : World} {base : Nat} {e : TypeId} {size : Nat} {v : Value} {n : Nat} {xs : List Value} (h : w.ownsRow base e size v n xs) (hb : Below w.heap.size w w') : w'.ownsRow base e size v n xs :=
  h.kept (row := none) ⟨hb.os, hb.tape, hb.output, hb.size, fun k hk _ => hb.block k hk⟩ (by
    rcases h.2 with ⟨rfl, _⟩ | ⟨g, cap, cur, rfl, _⟩
    · exact .inl rfl
    · exact .inr (by simp [Value.ownBlock]))

/-- What the proof's frame tells of a list of bytes that came in. -/
def IsRow (k : IntKind) (w : World) (a : Option Addr) (len cap : Nat) (zs : List Int) : Prop :=
  (a = none ∧ len = 0 ∧ cap = 0 ∧ zs = []) ∨
  ∃ x, a = some x ∧ len ≤ cap ∧ cap ≤ maxLen ∧ zs.length = cap ∧ (∀ i, i < zs.length → w.cell? (x.add i) = some (.int k (zs.getD i 0))) ∧ ∀ n ∈ zs, (Lit.int k n).wf = true

theorem lt_of_cell {w : World} {b off : Nat} {v : Value} (h : w.cell? ⟨b, off, none⟩ = some v) : b < w.heap.size := by
  by_cases hb : b < w.heap.size
  · exact hb
  · have : w.heap[b]? = none := by simp; omega
    simp [World.cell?, this] at h

theorem IsRow.seg {w : World} {a : Option Addr} {len cap : Nat} {zs : List Int} (h : IsRow .u8 w a len cap zs) : Seg w a len (zs.take len) := by
  rcases h with ⟨rfl, rfl, rfl, rfl⟩ | ⟨x, rfl, hl, hm, hz, hcell, hwz⟩
  · exact ⟨rfl, by simp, .inl rfl⟩
  · refine ⟨by simp; omega, fun n hn => ?_, ?_⟩
    · exact bounds_u8 (hwz n (List.mem_of_mem_take hn))
    · by_cases h0 : len = 0
      · exact .inl h0
      · obtain ⟨b, off, spot⟩ := x
        have hc := hcell 0 (by omega)
        have hspot : spot = none := by simpa [Addr.add] using World.cell?_spot hc
        subst hspot
        have hc0 : w.cell? ⟨b, off, none⟩ = some (.int .u8 (zs.getD 0 0)) := by simpa [Addr.add] using hc
        refine .inr ⟨b, off, rfl, lt_of_cell hc0, fun i hi => ?_⟩
        have := hcell i (by omega)
        rw [List.getD_eq_getElem?_getD, List.getElem?_take, if_pos hi, ← List.getD_eq_getElem?_getD]
        by_cases hi0 : i = 0
        · subst hi0
          simpa [Addr.add] using this
        · simpa [Addr.add, hi0] using this

theorem copied_step (zs : List Int) (k len : Nat) (hk : k < len) (hz : zs.length = len) :
    ((zs.take k ++ List.replicate (len - k) 0).map (Value.int .u8)).set k (.int .u8 (zs.getD k 0)) = (zs.take (k + 1) ++ List.replicate (len - (k + 1)) 0).map (Value.int .u8) := by
  have hkz : k < zs.length := by omega
  have e1 : len - k = (len - (k + 1)) + 1 := by omega
  rw [e1, List.replicate_succ, List.take_succ_eq_append_getElem hkz, List.getD_eq_getElem?_getD, List.getElem?_eq_getElem hkz]
  simp only [List.map_append, List.map_cons, List.map_nil, Option.getD_some]
  rw [List.set_append_right _ _ (by simp; omega)]
  simp [Nat.min_eq_left (Nat.le_of_lt hkz)]

end Go.Proofs.YtiigdcpjelbdjaaGreatDoor

namespace Go.Proofs.YtiigdcpjelbdjaaGreatDoor
open Go.RowKit

theorem wrap_i64_small (n : Nat) (h : n < 9223372036854775808) : IntKind.i64.wrap (n : Int) = (n : Int) := by
  simp [IntKind.wrap, IntKind.bits, IntKind.signed]
  omega

theorem ofInt64 (a : Nat) (ha : a < 18446744073709551616) : (BitVec.ofInt 64 (a : Int)).toNat = a := by
  rw [BitVec.ofInt_natCast, BitVec.toNat_ofNat]; exact Nat.mod_eq_of_lt (by omega)

theorem i64_or_nat (a b : Nat) (ha : a < 9223372036854775808) (hb : b < 9223372036854775808) : bits .or .i64 (a : Int) (b : Int) = ((a ||| b : Nat) : Int) := by
  have hx : a ||| b < 2 ^ 63 := Nat.or_lt_two_pow (by omega) (by omega)
  show IntKind.i64.wrap ((BitVec.ofInt 64 (a : Int) ||| BitVec.ofInt 64 (b : Int)).toNat : Int) = _
  rw [BitVec.toNat_or, ofInt64 a (by omega), ofInt64 b (by omega), wrap_i64_small _ (by omega)]

theorem i64_xor_nat (a b : Nat) (ha : a < 9223372036854775808) (hb : b < 9223372036854775808) : bits .xor .i64 (a : Int) (b : Int) = ((a ^^^ b : Nat) : Int) := by
  have hx : a ^^^ b < 2 ^ 63 := Nat.xor_lt_two_pow (by omega) (by omega)
  show IntKind.i64.wrap ((BitVec.ofInt 64 (a : Int) ^^^ BitVec.ofInt 64 (b : Int)).toNat : Int) = _
  rw [BitVec.toNat_xor, ofInt64 a (by omega), ofInt64 b (by omega), wrap_i64_small _ (by omega)]

theorem i64_and_nat (a b : Nat) (ha : a < 9223372036854775808) (hb : b < 9223372036854775808) : bits .and .i64 (a : Int) (b : Int) = ((a &&& b : Nat) : Int) := by
  have hx : a &&& b < 2 ^ 63 := Nat.and_lt_two_pow _ (by omega)
  show IntKind.i64.wrap ((BitVec.ofInt 64 (a : Int) &&& BitVec.ofInt 64 (b : Int)).toNat : Int) = _
  rw [BitVec.toNat_and, ofInt64 a (by omega), ofInt64 b (by omega), wrap_i64_small _ (by omega)]

/-- A number joined with a byte in its lowest eight bits. -/
theorem join8 (m x : Int) (h0 : 0 ≤ m) (h1 : m < 36028797018963968) (h2 : 0 ≤ x) (h3 : x ≤ 255) : bits .or .i64 (m * 256) x = m * 256 + x := by
  obtain ⟨a, rfl⟩ := Int.eq_ofNat_of_zero_le h0
  obtain ⟨b, rfl⟩ := Int.eq_ofNat_of_zero_le h2
  have e : ((a : Int) * 256) = ((a * 256 : Nat) : Int) := by omega
  rw [e, i64_or_nat _ _ (by omega) (by omega)]
  have := Nat.shiftLeft_add_eq_or_of_lt (b := b) (i := 8) (by omega) a
  rw [Nat.shiftLeft_eq] at this
  rw [show a * 256 = a * 2 ^ 8 from rfl, ← this]
  omega

/-- The number that bytes make, the highest first. -/
def gb (l : List Int) : Int := l.foldl (fun m x => m * 256 + x) 0

theorem gb_snoc (l : List Int) (x : Int) : gb (l ++ [x]) = gb l * 256 + x := by simp [gb, List.foldl_append]

theorem fold_bound (l : List Int) : ∀ (m : Int) (M : Nat), 0 ≤ m → m < (M : Int) → (∀ n ∈ l, 0 ≤ n ∧ n ≤ 255) → 0 ≤ l.foldl (fun m x => m * 256 + x) m ∧ l.foldl (fun m x => m * 256 + x) m < ((M * 256 ^ l.length : Nat) : Int) := by
  induction l with
  | nil => intro m M h0 h1 _; simpa using ⟨h0, h1⟩
  | cons x l ih =>
    intro m M h0 h1 h
    have h2 := h x (by simp)
    have h3 := ih (m * 256 + x) (M * 256) (by omega) (by omega) (fun n hn => h n (by simp [hn]))
    rw [List.foldl_cons, List.length_cons, Nat.pow_succ]
    rw [show M * (256 ^ l.length * 256) = M * 256 * 256 ^ l.length from by rw [Nat.mul_comm (256 ^ l.length) 256, Nat.mul_assoc]]
    exact h3

theorem gb_bound (l : List Int) (h : ∀ n ∈ l, 0 ≤ n ∧ n ≤ 255) : 0 ≤ gb l ∧ gb l < ((256 ^ l.length : Nat) : Int) := by
  have e := fold_bound l 0 1 (by omega) (by omega) h
  rw [Nat.one_mul] at e
  exact e

theorem drop_take_snoc (zs : List Int) (at_ j : Nat) (h : at_ + j < zs.length) : (zs.drop at_).take (j + 1) = (zs.drop at_).take j ++ [zs.getD (at_ + j) 0] := by
  rw [List.take_add_one, List.getElem?_drop, List.getD_eq_getElem?_getD, List.getElem?_eq_getElem h]
  rfl

theorem gb_part_bound (zs : List Int) (at_ j : Nat) (h : ∀ n ∈ zs, 0 ≤ n ∧ n ≤ 255) (hj : j ≤ 7) : 0 ≤ gb ((zs.drop at_).take j) ∧ gb ((zs.drop at_).take j) < 72057594037927936 := by
  have h1 := gb_bound ((zs.drop at_).take j) (fun n hn => h n (List.mem_of_mem_drop (List.mem_of_mem_take hn)))
  have h2 : ((zs.drop at_).take j).length ≤ 7 := by simp; omega
  have h3 : 256 ^ ((zs.drop at_).take j).length ≤ 256 ^ 7 := Nat.pow_le_pow_right (by decide) h2
  have h4 : 256 ^ 7 = 72057594037927936 := by decide
  omega

theorem gb_part_small (zs : List Int) (at_ j : Nat) (h : ∀ n ∈ zs, 0 ≤ n ∧ n ≤ 255) (hj : j ≤ 6) : gb ((zs.drop at_).take j) < 281474976710656 := by
  have h1 := gb_bound ((zs.drop at_).take j) (fun n hn => h n (List.mem_of_mem_drop (List.mem_of_mem_take hn)))
  have h2 : ((zs.drop at_).take j).length ≤ 6 := by simp; omega
  have h3 : 256 ^ ((zs.drop at_).take j).length ≤ 256 ^ 6 := Nat.pow_le_pow_right (by decide) h2
  have h4 : 256 ^ 6 = 281474976710656 := by decide
  omega

end Go.Proofs.YtiigdcpjelbdjaaGreatDoor

namespace Go.Proofs.YtiigdcpjelbdjaaGreatDoor
open Go.RowKit

/-- The byte of n that stands i bytes from the end. -/
def byteOf (n : Nat) (i : Nat) : Int := (n : Int) / 2 ^ (8 * i) % 256

/-- The first t of the k bytes of n. -/
def pbl (n k t : Nat) : List Int := (List.range t).map fun j => byteOf n (k - 1 - j)

theorem pbl_succ (n k t : Nat) : pbl n k (t + 1) = pbl n k t ++ [byteOf n (k - 1 - t)] := by simp [pbl, List.range_succ]
theorem pbl_len (n k t : Nat) : (pbl n k t).length = t := by simp [pbl]
theorem byteOf_range (n i : Nat) : 0 ≤ byteOf n i ∧ byteOf n i ≤ 255 := by
  unfold byteOf
  generalize (n : Int) / 2 ^ (8 * i) = q
  omega
theorem byteOf_zero (i : Nat) : byteOf 0 i = 0 := by simp [byteOf]
theorem pbl_range (n k t : Nat) : ∀ x ∈ pbl n k t, 0 ≤ x ∧ x ≤ 255 := by
  intro x hx
  simp only [pbl, List.mem_map] at hx
  obtain ⟨j, _, rfl⟩ := hx
  exact byteOf_range _ _

/-- What PutBig answers. -/
def pb (zs : List Int) (n k : Int) : List Int := zs ++ (if 1 ≤ k ∧ k ≤ 8 then pbl n.toNat k.toNat k.toNat else [])

theorem pb_len (zs : List Int) (n k : Int) : (pb zs n k).length ≤ zs.length + 8 := by
  unfold pb
  split
  · rw [List.length_append, pbl_len]; omega
  · simp

end Go.Proofs.YtiigdcpjelbdjaaGreatDoor

namespace Go.Proofs.YtiigdcpjelbdjaaGreatDoor
open Go.RowKit
set_option linter.unusedVariables false

theorem Tryz.info5 : (Tryz.prog.info? 5).map (fun i => (i.zero, i.size, i.bytes)) = some (some (.int .u8 0), 1, 1) := by kernel_rfl
theorem ret_int {k : IntKind} {a b : Int} (h : a = b) : Ending.returned (.int k a) = .returned (.int k b) := by rw [h]

/-- A slice value that owns its row: the bytes zs, in a row of the call's own from base on. -/
def Owns (w : World) (base : Nat) (a : Option Addr) (n cap : Nat) (zs : List Int) : Prop :=
  w.ownsRow base 5 1 (.slice a n cap) n (zs.map (Value.int .u8)) ∧ ∀ x ∈ zs, 0 ≤ x ∧ x ≤ 255

theorem Owns.seg {w : World} {base n cap : Nat} {a : Option Addr} {zs : List Int} (h : Owns w base a n cap zs) : Seg w a n zs := by
  obtain ⟨h1, h2⟩ := h
  rcases h1.2 with ⟨he, rfl⟩ | ⟨g, cap', cur, he, _⟩
  · have : zs = [] := by have := h1.1; simpa using this
    subst this
    exact ⟨rfl, by simp, .inl rfl⟩
  · simp only [Value.slice.injEq] at he
    obtain ⟨rfl, _, rfl⟩ := he
    exact Seg.ofOwn h1 h2

/-- Only the row of the slice value a may have turned. -/
def Only (w w' : World) (a : Option Addr) : Prop := w.grownBy w' (a.map (·.block))

theorem Owns.only {w w' : World} {base n cap : Nat} {a b : Option Addr} {zs : List Int} (h : Owns w base a n cap zs) (ho : Only w w' b) (hne : a = none ∨ a.map (·.block) ≠ b.map (·.block)) : Owns w' base a n cap zs := by
  refine ⟨h.1.kept ho ?_, h.2⟩
  rcases hne with rfl | hne
  · exact .inl rfl
  · cases a with
    | none => exact .inl rfl
    | some p => exact .inr hne

theorem Owns.below {w w' : World} {base n cap : Nat} {a : Option Addr} {zs : List Int} (h : Owns w base a n cap zs) (hb : Below w.heap.size w w') : Owns w' base a n cap zs := ⟨own_below h.1 hb, h.2⟩

theorem Owns.lt {w : World} {base n cap : Nat} {a : Option Addr} {zs : List Int} (h : Owns w base a n cap zs) : ∀ k, a.map (·.block) = some k → base ≤ k ∧ k < w.heap.size := by
  intro k hk
  cases a with
  | none => simp at hk
  | some p => exact h.1.lt k (by simpa [Value.ownBlock] using hk)

theorem Only.drewN {w w' : World} {a : Option Addr} (h : Only w w' a) (n : Nat) : Only w (w'.drewN n) a := ⟨h.os, h.tape, h.output, h.size, h.block⟩

theorem Only.below {w0 w w' : World} {B : Nat} {a : Option Addr} (h : Only w w' a) (h0 : Below B w0 w) (hB : B ≤ w.heap.size) (ha : ∀ k, a.map (·.block) = some k → B ≤ k) : Below B w0 w' := h0.grown h hB ha

/-- A world in which nothing but draws has come. -/
def Still (w w' : World) : Prop := ∃ n, w' = w.drewN n

theorem Still.seg {w w' : World} (h : Still w w') {a : Option Addr} {n : Nat} {zs : List Int} (hs : Seg w a n zs) : Seg w' a n zs := by
  obtain ⟨m, rfl⟩ := h
  exact hs

theorem Still.owns {w w' : World} (h : Still w w') {base n cap : Nat} {a : Option Addr} {zs : List Int} (hs : Owns w base a n cap zs) : Owns w' base a n cap zs := by
  obtain ⟨m, rfl⟩ := h
  exact hs

theorem Still.below {w0 w w' : World} (h : Still w w') {B : Nat} (hs : Below B w0 w) : Below B w0 w' := by
  obtain ⟨m, rfl⟩ := h
  exact below_drewN hs m

theorem Still.size {w w' : World} (h : Still w w') : w'.heap.size = w.heap.size := by
  obtain ⟨m, rfl⟩ := h
  rfl

theorem hidden {p : Prop} (h : p) : Hid p := h

theorem ret_bool {a b : Bool} (h : a = b) : Ending.returned (.bool a) = .returned (.bool b) := by rw [h]

theorem cells_ints {w : World} {b off len : Nat} {zs : List Int} (hs : Seg w (some ⟨b, off, none⟩) len zs) : ∀ j u, (zs.map (Value.int .u8))[j]? = some u → w.cell? ((⟨b, off, none⟩ : Addr).add j) = some u := by
  intro j u hu
  rw [List.getElem?_map] at hu
  have hj : j < zs.length := by
    by_cases h : j < zs.length
    · exact h
    · rw [List.getElem?_eq_none (by omega)] at hu; simp at hu
  rw [List.getElem?_eq_getElem hj] at hu
  simp only [Option.map_some, Option.some.injEq] at hu
  rcases hs.2.2 with h | ⟨b', off', he, _, hc⟩
  · have := hs.1; omega
  · simp only [Option.some.injEq, Addr.mk.injEq, and_true] at he
    obtain ⟨rfl, rfl⟩ := he
    have := hc j (by have := hs.1; omega)
    rw [List.getD_eq_getElem?_getD, List.getElem?_eq_getElem hj, Option.getD_some] at this
    by_cases h0 : j = 0
    · subst h0; simpa [Addr.add, hu] using this
    · simpa [Addr.add, h0, hu] using this

theorem ints_one (zs : List Int) : ∀ u ∈ zs.map (Value.int .u8), u.oneCell' = true := by
  intro u hu
  simp only [List.mem_map] at hu
  obtain ⟨x, _, rfl⟩ := hu
  rfl

theorem one_new (w : World) (x : Int) : ∀ j u, [Value.int .u8 x][j]? = some u → (w.alloc (.cells #[.int .u8 x] 5)).cell? ((⟨w.heap.size, 0, none⟩ : Addr).add j) = some u := by
  intro j u hj
  match j, hj with
  | 0, hj => simp at hj; subst hj; simp [Addr.add]

theorem shape_of_owns {w : World} {base n : Nat} {v : Value} {xs : List Value} (h : w.ownsRow base 5 1 v n xs) : ∃ a cap, v = .slice a n cap := by
  rcases h.2 with ⟨rfl, rfl⟩ | ⟨g, cap, cur, rfl, _⟩
  · exact ⟨_, _, rfl⟩
  · exact ⟨_, _, rfl⟩

end Go.Proofs.YtiigdcpjelbdjaaGreatDoor

namespace Go.Proofs.YtiigdcpjelbdjaaGreatDoor
open Go.RowKit
set_option linter.unusedVariables false

/-- The cursor in block c: the code's bytes lie below block B, which is not above c. -/
def Cur (w : World) (B c : Nat) (a : Option Addr) (len cap : Nat) (zs : List Int) : Prop :=
  B ≤ c ∧ (∀ x, a = some x → len ≠ 0 → x.block < B) ∧ Seg w a len zs ∧
    ∃ (i : Nat) (h : Int), i ≤ len ∧ w.heap[c]? = some (.cells #[.slice a len cap, .int .i64 i, .int .i64 h] 71 (0, 0))

theorem and_mask (x : Int) (m : Nat) (hm : m < 9223372036854775808) : 0 ≤ bits .and .i64 x (m : Int) ∧ bits .and .i64 x (m : Int) ≤ (m : Int) := by
  have e : bits .and .i64 x (m : Int) = (((BitVec.ofInt 64 x).toNat &&& m : Nat) : Int) := by
    show IntKind.i64.wrap ((BitVec.ofInt 64 x &&& BitVec.ofInt 64 (m : Int)).toNat : Int) = _
    rw [BitVec.toNat_and, ofInt64 m (by omega)]
    have h1 : (BitVec.ofInt 64 x).toNat &&& m ≤ m := Nat.and_le_right
    exact wrap_i64_small _ (by omega)
  have h1 : (BitVec.ofInt 64 x).toNat &&& m ≤ m := Nat.and_le_right
  rw [e]
  omega

theorem cur_new {w : World} {a : Option Addr} {len cap : Nat} {zs : List Int} (hs : Seg w a len zs) (h : Int) :
    Cur (w.alloc (.cells #[.slice a len cap, .int .i64 0, .int .i64 h] 71)) w.heap.size w.heap.size a len cap zs := by
  refine ⟨Nat.le_refl _, ?_, hs.below ((Below.refl _ _).alloc (Nat.le_refl _) _), 0, h, Nat.zero_le _, heap_alloc_new w _⟩
  rintro x rfl hl
  rcases hs.2.2 with h0 | ⟨b, off, e, hb, _⟩
  · exact absurd h0 hl
  · obtain rfl := Option.some.inj e
    exact hb

set_option maxRecDepth 10000 in
set_option maxHeartbeats 400000 in
theorem l1New_any (a : Option Addr) (len cap : Nat) (zs : List Int) (w : World) (hs : Seg w a len zs) (hl : len ≤ 1099511627776) :
    Calls Tryz.prog 17 #[.slice a len cap] w fun e w' => e = .returned (.pointer (some ⟨w.heap.size, 0, none⟩)) ∧ Cur w' w.heap.size w.heap.size a len cap zs ∧ Below w.heap.size w w' := by
  have HS : Hid (Seg w a len zs) := hs
  clear hs
  go_enter Tryz.func17, Tryz.ntmps17
  go_wp2
  go_loop [3, 4] (fun n i => ∃ (k : Nat) (m : Int), k ≤ len ∧ i = .int .i64 k ∧ n = .int .i64 m) (fun _ i => len - (intOf i).toNat)
  case atStart => exact ⟨0, _, Nat.zero_le _, rfl, rfl⟩
  case round =>
    obtain ⟨k, m, hk, rfl, rfl⟩ := hrel
    by_cases hlt : k < len ∧ k < 4000
    · obtain ⟨hlt, h4⟩ := hlt
      obtain ⟨b, off, rfl, hb, hc⟩ : ∃ b off, a = some ⟨b, off, none⟩ ∧ b < w.heap.size ∧ ∀ i, i < len → w.cell? ⟨b, off + i, none⟩ = some (.int .u8 (zs.getD i 0)) := by
        rcases HS.out.2.2 with h | h
        · omega
        · exact h
      have hcell : w.cell? ⟨b, off + k, none⟩ = some (.int .u8 (zs.getD k 0)) := hc k hlt
      have h4i : (k : Int) < 4000 := by omega
      clear hc h4
      go_wp2
      go_round
      case rel => exact ⟨k + 1, _, by omega, by go_num, rfl⟩
      case measure => simp [intOf]; omega
    · by_cases hlt2 : k < len
      · have h4i : ¬ (k : Int) < 4000 := by omega
        clear hlt
        go_wp2
        go_ret
        exact ⟨rfl, cur_new HS.out _, (Below.refl _ _).alloc (Nat.le_refl _) _⟩
      · clear hlt
        go_wp2
        go_ret
        exact ⟨rfl, cur_new HS.out _, (Below.refl _ _).alloc (Nat.le_refl _) _⟩

theorem cells_of_three {w : World} {c : Nat} {x y z : Value} {t : TypeId} (h : w.heap[c]? = some (.cells #[x, y, z] t (0, 0))) :
    w.cell? ⟨c, 0, none⟩ = some x ∧ w.cell? ⟨c, 1, none⟩ = some y ∧ w.cell? ⟨c, 2, none⟩ = some z ∧ w.frozen? ⟨c, 1, none⟩ = false ∧ w.frozen? ⟨c, 2, none⟩ = false := by
  refine ⟨?_, ?_, ?_, frozen_of_row w c 1 _ t h, frozen_of_row w c 2 _ t h⟩
  · rw [cell_of_row w c 0 _ t (0, 0) h]; rfl
  · rw [cell_of_row w c 1 _ t (0, 0) h]; rfl
  · rw [cell_of_row w c 2 _ t (0, 0) h]; rfl

theorem gset (w : World) (c o : Nat) (v : Value) : w.grownBy (w.setCell ⟨c, o, none⟩ v) (some c) :=
  ⟨rfl, rfl, rfl, by simp [World.setCell], fun k _ hk => Below.heap_setCell _ _ _ _ (fun e => hk (by simp [e]))⟩
theorem gdrew (w : World) (n : Nat) (row : Option Nat) : w.grownBy (w.drewN n) row := ⟨rfl, rfl, rfl, Nat.le_refl _, fun _ _ _ => rfl⟩
theorem gtrans {w w1 w2 : World} {row : Option Nat} (h : w.grownBy w1 row) (k : w1.grownBy w2 row) : w.grownBy w2 row :=
  ⟨k.os.trans h.os, k.tape.trans h.tape, k.output.trans h.output, Nat.le_trans h.size k.size, fun j hj hne => (k.block j (Nat.lt_of_lt_of_le hj h.size) hne).trans (h.block j hj hne)⟩
theorem gbelow {w w' : World} (h : Below w.heap.size w w') (row : Option Nat) : w.grownBy w' row := ⟨h.os, h.tape, h.output, h.size, fun k hk _ => h.block k hk⟩

theorem seg_grown {w w' : World} {B c : Nat} {a : Option Addr} {len : Nat} {zs : List Int} (hB : B ≤ c) (hlow : ∀ x, a = some x → len ≠ 0 → x.block < B) (hs : Seg w a len zs) (hg : w.grownBy w' (some c)) : Seg w' a len zs := by
  refine ⟨hs.1, hs.2.1, ?_⟩
  by_cases h0 : len = 0
  · exact .inl h0
  · rcases hs.2.2 with h | ⟨b, off, rfl, hb, hc⟩
    · exact .inl h
    · have hbB : b < B := hlow _ rfl h0
      refine .inr ⟨b, off, rfl, Nat.lt_of_lt_of_le hb hg.size, fun i hi => ?_⟩
      exact (World.cell?_of_block (w := w) (a := ⟨b, off + i, none⟩) (hg.block b hb (fun e => by have := Option.some.inj e; omega))).trans (hc i hi)

theorem Cur.again {w w' : World} {B c : Nat} {a : Option Addr} {len cap : Nat} {zs : List Int} (hB : B ≤ c) (hlow : ∀ x, a = some x → len ≠ 0 → x.block < B) (hs : Seg w a len zs) (hg : w.grownBy w' (some c))
    (i : Nat) (h : Int) (hi : i ≤ len) (hh : w'.heap[c]? = some (.cells #[.slice a len cap, .int .i64 i, .int .i64 h] 71 (0, 0))) : Cur w' B c a len cap zs :=
  ⟨hB, hlow, seg_grown hB hlow hs hg, i, h, hi, hh⟩

/-- A world in which other blocks than the cursor's have turned, and new ones come. -/
theorem Cur.kept {w w' : World} {B c : Nat} {a : Option Addr} {len cap : Nat} {zs : List Int} {row : Option Nat} (h : Cur w B c a len cap zs) (hg : w.grownBy w' row) (hr : ∀ k, row = some k → B ≤ k ∧ k ≠ c) : Cur w' B c a len cap zs := by
  obtain ⟨hB, hlow, hs, i, hh, hi, hc⟩ := h
  have hcl : c < w.heap.size := by
    by_cases hk : c < w.heap.size
    · exact hk
    · rw [Array.getElem?_eq_none (by omega)] at hc; cases hc
  refine ⟨hB, hlow, ?_, i, hh, hi, (hg.block c hcl (fun e => (hr c e.symm).2 rfl)).trans hc⟩
  refine ⟨hs.1, hs.2.1, ?_⟩
  by_cases h0 : len = 0
  · exact .inl h0
  · rcases hs.2.2 with h | ⟨b, off, rfl, hb, hcc⟩
    · exact .inl h
    · have hbB : b < B := hlow _ rfl h0
      refine .inr ⟨b, off, rfl, Nat.lt_of_lt_of_le hb hg.size, fun j hj => ?_⟩
      exact (World.cell?_of_block (w := w) (a := ⟨b, off + j, none⟩) (hg.block b hb (fun e => by have := (hr b e.symm).1; omega))).trans (hcc j hj)

theorem Cur.lt {w : World} {B c : Nat} {a : Option Addr} {len cap : Nat} {zs : List Int} (h : Cur w B c a len cap zs) : c < w.heap.size := by
  obtain ⟨_, _, _, i, hh, _, hc⟩ := h
  by_cases hk : c < w.heap.size
  · exact hk
  · rw [Array.getElem?_eq_none (by omega)] at hc; cases hc

set_option maxRecDepth 10000 in
set_option maxHeartbeats 400000 in
theorem l1Byte_any (B c : Nat) (a : Option Addr) (len cap : Nat) (zs : List Int) (w : World) (hcur : Cur w B c a len cap zs) (hl : len ≤ 1099511627776) :
    Calls Tryz.prog 56 #[.pointer (some ⟨c, 0, none⟩)] w fun e w' => ∃ x : Int, 0 ≤ x ∧ x ≤ 255 ∧ e = .returned (.int .i64 x) ∧ Cur w' B c a len cap zs ∧ w.grownBy w' (some c) := by
  obtain ⟨hB, hlow, hs, i, h, hi, hh⟩ := hcur
  obtain ⟨c0, c1, c2, f1, f2⟩ := cells_of_three hh
  have HH : Hid _ := hh
  have HS : Hid (Seg w a len zs) := hs
  have HL : Hid (∀ x, a = some x → len ≠ 0 → x.block < B) := hlow
  clear hh hs hlow
  by_cases hlt : i < len
  · obtain ⟨b, off, rfl, hb, hc⟩ : ∃ b off, a = some ⟨b, off, none⟩ ∧ b < w.heap.size ∧ ∀ i, i < len → w.cell? ⟨b, off + i, none⟩ = some (.int .u8 (zs.getD i 0)) := by
      rcases HS.out.2.2 with h | h
      · omega
      · exact h
    have hbB := HL.out _ rfl (by omega)
    have hbc : ¬ b = c := by simp at hbB; omega
    have hcell : w.cell? ⟨b, off + i, none⟩ = some (.int .u8 (zs.getD i 0)) := hc i hlt
    clear hc hbB
    go_enter Tryz.func56, Tryz.ntmps56
    go_wp2
    generalize wrap64 (wrap64 (h * 6364136223846793005) + 1442695040888963407) = h'
    go_quiet (fail)
    go_wp2
    obtain ⟨hx0, hx1⟩ := and_mask (bits BinOp.xor .i64 (h' / 8589934592) (h' / 140737488355328)) 255 (by omega)
    generalize bits BinOp.and .i64 (bits BinOp.xor .i64 (h' / 8589934592) (h' / 140737488355328)) 255 = x at *
    go_quiet (fail)
    go_wp2
    go_quiet (fail)
    go_wp2
    go_ret
    obtain ⟨hy0, hy1⟩ := and_mask (wrap64 (x + wrap64 (zs.getD i 0))) 255 (by omega)
    refine ⟨_, hy0, hy1, by simp, ?_, ?_⟩
    · refine Cur.again hB HL.out HS.out (gtrans (gtrans (gset w c 2 _) (gdrew _ _ _)) (gset _ c 1 _)) (i + 1) h' (by omega) ?_
      have h1 := heap_setCell_same w c 2 _ 71 (.int .i64 h') HH.out
      exact heap_setCell_same ((w.setCell ⟨c, 2, none⟩ (.int .i64 h')).drewN _) c 1 _ 71 _ h1
    · exact gtrans (gtrans (gset w c 2 _) (gdrew _ _ _)) (gset _ c 1 _)
  · go_enter Tryz.func56, Tryz.ntmps56
    go_wp2
    generalize wrap64 (wrap64 (h * 6364136223846793005) + 1442695040888963407) = h'
    go_quiet (fail)
    go_wp2
    obtain ⟨hx0, hx1⟩ := and_mask (bits BinOp.xor .i64 (h' / 8589934592) (h' / 140737488355328)) 255 (by omega)
    generalize bits BinOp.and .i64 (bits BinOp.xor .i64 (h' / 8589934592) (h' / 140737488355328)) 255 = x at *
    go_quiet (fail)
    go_wp2
    go_ret
    refine ⟨x, hx0, hx1, rfl, ?_, ?_⟩
    · exact Cur.again hB HL.out HS.out (gtrans (gtrans (gset w c 2 _) (gdrew _ _ _)) (gdrew _ _ _)) i h' hi (heap_setCell_same w c 2 _ 71 (.int .i64 h') HH.out)
    · exact gtrans (gtrans (gset w c 2 _) (gdrew _ _ _)) (gdrew _ _ _)

end Go.Proofs.YtiigdcpjelbdjaaGreatDoor

namespace Go.Proofs.YtiigdcpjelbdjaaGreatDoor
open Go.RowKit
set_option linter.unusedVariables false

set_option maxRecDepth 10000 in
set_option maxHeartbeats 400000 in
theorem l1Below_any (B c : Nat) (a : Option Addr) (len cap : Nat) (zs : List Int) (n : Int) (w : World) (hcur : Cur w B c a len cap zs) (hl : len ≤ 1099511627776) (hn1 : 1 ≤ n) (hn2 : n ≤ 1000000) :
    Calls Tryz.prog 37 #[.pointer (some ⟨c, 0, none⟩), .int .i64 n] w fun e w' => ∃ x : Int, e = .returned (.int .i64 x) ∧ 0 ≤ x ∧ x < n ∧ Cur w' B c a len cap zs ∧ w.grownBy w' (some c) := by
  have HC : Hid _ := hcur
  clear hcur
  have hne : (n == 0) = false := by rw [beq_eq_false_iff_ne]; omega
  by_cases h256 : n ≤ 256
  · go_enter Tryz.func37, Tryz.ntmps37
    go_wp2_with fail
    refine (l1Byte_any B c a len cap zs _ HC.out hl).mono ?_
    rintro e w1 ⟨x, hx0, hx1, rfl, hc1, hg1⟩
    have HC1 : Hid _ := hc1
    have HG1 : Hid _ := hg1
    clear hc1 hg1
    go_wp2_with fail
    go_ret
    refine ⟨_, rfl, ?_, ?_, HC1.out, HG1.out⟩
    · first | exact Int.emod_nonneg _ (by omega) | exact Int.tmod_nonneg _ (by omega)
    · first | exact Int.emod_lt_of_pos _ (by omega) | exact Int.tmod_lt_of_pos _ (by omega)
  · go_enter Tryz.func37, Tryz.ntmps37
    go_wp2_with fail
    refine (l1Byte_any B c a len cap zs _ HC.out hl).mono ?_
    rintro e w1 ⟨x, hx0, hx1, rfl, hc1, hg1⟩
    have HC1 : Hid _ := hc1
    have HG1 : Hid _ := hg1
    clear hc1 hg1
    go_wp2_with fail
    refine (l1Byte_any B c a len cap zs _ HC1.out hl).mono ?_
    rintro e w2 ⟨y, hy0, hy1, rfl, hc2, hg2⟩
    have HC2 : Hid _ := hc2
    have HG2 : Hid _ := gtrans HG1.out hg2
    clear hc2 hg2
    go_wp2_with fail
    refine (l1Byte_any B c a len cap zs _ HC2.out hl).mono ?_
    rintro e w3 ⟨z, hz0, hz1, rfl, hc3, hg3⟩
    have HC3 : Hid _ := hc3
    have HG3 : Hid _ := gtrans HG2.out hg3
    clear hc3 hg3
    go_wp2_with fail
    go_ret
    refine ⟨_, rfl, ?_, ?_, HC3.out, HG3.out⟩
    · first | exact Int.emod_nonneg _ (by omega) | exact Int.tmod_nonneg _ (by omega)
    · first | exact Int.emod_lt_of_pos _ (by omega) | exact Int.tmod_lt_of_pos _ (by omega)

theorem cell_of_ints {w : World} {g : Nat} {L : List Int} (h : w.heap[g]? = some (.cells (L.map (Value.int .i64)).toArray 3 (0, 0))) (k : Nat) (hk : k < L.length) : w.cell? ⟨g, k, none⟩ = some (.int .i64 (L.getD k 0)) := by
  rw [cell_of_row w g k _ 3 (0, 0) h]
  simp [List.getD_eq_getElem?_getD, hk]

set_option maxRecDepth 10000 in
set_option maxHeartbeats 400000 in
theorem l1Int_any (B c : Nat) (a : Option Addr) (len cap : Nat) (zs : List Int) (g n cp : Nat) (L : List Int) (w : World) (hcur : Cur w B c a len cap zs) (hl : len ≤ 1099511627776)
    (hL : w.heap[g]? = some (.cells (L.map (Value.int .i64)).toArray 3 (0, 0))) (hgc : g ≠ c) (hn : L.length = n) (h1 : 1 ≤ n) (h2 : n ≤ 256) :
    Calls Tryz.prog 36 #[.pointer (some ⟨c, 0, none⟩), .slice (some ⟨g, 0, none⟩) n cp] w fun e w' => ∃ v : Int, e = .returned (.int .i64 v) ∧ v ∈ L ∧ Cur w' B c a len cap zs ∧ w.grownBy w' (some c) := by
  have HC : Hid _ := hcur
  have HL : Hid _ := hL
  have HN : Hid (L.length = n) := hn
  clear hcur hL hn
  have hi1 : (1 : Int) ≤ (n : Int) := by omega
  have hi2 : (n : Int) ≤ 1000000 := by omega
  have hglt : g < w.heap.size := by
    by_cases hk : g < w.heap.size
    · exact hk
    · have := HL.out; rw [Array.getElem?_eq_none (by omega)] at this; cases this
  go_enter Tryz.func36, Tryz.ntmps36
  go_wp2_with fail
  refine (l1Below_any B c a len cap zs _ _ HC.out hl hi1 hi2).mono ?_
  rintro e w1 ⟨x, rfl, hx0, hx1, hc1, hg1⟩
  obtain ⟨k, rfl⟩ := Int.eq_ofNat_of_zero_le hx0
  have HC1 : Hid _ := hc1
  have HG1 : Hid _ := hg1
  have hcell : w1.cell? ⟨g, k, none⟩ = some (.int .i64 (L.getD k 0)) := by
    refine cell_of_ints ?_ k (by have := HN.out; omega)
    rw [hg1.block g hglt (fun e => hgc (Option.some.inj e))]
    exact HL.out
  clear hc1 hg1
  go_wp2_with fail
  go_ret
  refine ⟨_, rfl, ?_, HC1.out, HG1.out⟩
  have hk : k < L.length := by have := HN.out; omega
  rw [List.getElem?_eq_getElem hk]
  exact List.getElem_mem hk

theorem gown {w w1 w2 : World} {c row : Option Nat} (h : w.grownBy w1 c) (k : w1.grownBy w2 row) (hr : ∀ j, row = some j → w.heap.size ≤ j) : w.grownBy w2 c :=
  ⟨k.os.trans h.os, k.tape.trans h.tape, k.output.trans h.output, Nat.le_trans h.size k.size, fun j hj hne => (k.block j (Nat.lt_of_lt_of_le hj h.size) (fun e => by have := hr j e.symm; omega)).trans (h.block j hj hne)⟩

theorem own_some5 {w : World} {base n : Nat} {v : Value} {xs : List Value} (h : w.ownsRow base 5 1 v n xs) (hv : ¬ v = .slice none 0 0) : ∃ g cp, v = .slice (some ⟨g, 0, none⟩) n cp ∧ base ≤ g := by
  rcases h.2 with ⟨rfl, _⟩ | ⟨g, cap, cur, rfl, hb, _⟩
  · exact absurd rfl hv
  · exact ⟨g, cap, rfl, hb⟩

theorem gnew {w W : World} {c : Option Nat} (h : w.grownBy W c) (o : Obj) : w.grownBy (W.alloc o) c := gown h (World.grownBy_alloc W o none) (by simp)
theorem gput {w W : World} {c : Option Nat} (h : w.grownBy W c) {b k : Nat} (hb : w.heap.size ≤ b) (v : Value) : w.grownBy (W.setCell ⟨b, k, none⟩ v) c := gown h (gset W b k v) (fun j e => by injection e with e; omega)
theorem Cur.put {w : World} {B c : Nat} {a : Option Addr} {len cap : Nat} {zs : List Int} (h : Cur w B c a len cap zs) {b k : Nat} (hb : c < b) (v : Value) : Cur (w.setCell ⟨b, k, none⟩ v) B c a len cap zs := h.kept (gset w b k v) (fun j e => by injection e with e; have := h.1; omega)
theorem Cur.new {w : World} {B c : Nat} {a : Option Addr} {len cap : Nat} {zs : List Int} (h : Cur w B c a len cap zs) (o : Obj) : Cur (w.alloc o) B c a len cap zs := h.kept (World.grownBy_alloc w o none) (by simp)


end Go.Proofs.YtiigdcpjelbdjaaGreatDoor
