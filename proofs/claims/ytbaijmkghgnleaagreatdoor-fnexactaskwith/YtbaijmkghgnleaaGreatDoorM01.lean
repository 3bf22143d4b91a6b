/- Plain facts on rows of bytes that a call reads or makes: no statement of the program; no condition. Plain arithmetic of bytes and bits: numbers out of bytes, the bits of small numbers; no program in it. The bytes that PutBig puts, the highest first; no program in it. Rows of bytes that a call has made, and what stays of them; no statement of the program but its table of types. The bytes of a prefixed number, and what they mean; no program in it. What GetPrefix reads: a number of a prefix and of groups behind it; no program in it. A prefixed number comes back of its bytes; cut by one byte it does not; no program in it. -/
import Derived.WalkKit
import Derived.WalkSpells
import Derived.WalkLawsBesides
import Derived.OpenShut
import Derived.Laws.BitsAllLaws
import Derived.Test.YtbaijmkghgnleaaGreatDoorRows
import Derived.Deep.QuietTactic
import Derived.BigQuiet
import Derived.Laws.CopyOwn
import Derived.Laws.Bits128
namespace Go.Proofs.YtbaijmkghgnleaaGreatDoor
open Go.RowKit

/-- The slice (a, len) holds the bytes zs in the world w. -/
def Seg (w : World) (a : Option Addr) (len : Nat) (zs : List Int) : Prop :=
  zs.length = len ∧ (∀ n ∈ zs, 0 ≤ n ∧ n ≤ 255) ∧
  (len = 0 ∨ ∃ b off, a = some ⟨b, off, none⟩ ∧ b < w.heap.size ∧ ∀ i, i < len → w.cell? ⟨b, off + i, none⟩ = some (.int .u8 (zs.getD i 0)))

theorem Seg.below {w w' : World} {a : Option Addr} {len : Nat} {zs : List Int} (h : Seg w a len zs) (hb : Below w.heap.size w w') : Seg w' a len zs := by
  obtain ⟨h1, h2, h3⟩ := h
  refine ⟨h1, h2, ?_⟩
  rcases h3 with h3 | ⟨b, off, rfl, hlt, hc⟩
  · exact .inl h3
  · exact .inr ⟨b, off, rfl, Nat.lt_of_lt_of_le hlt hb.size, fun i hi => (hb.cell (p := ⟨b, off + i, none⟩) hlt).trans (hc i hi)⟩

theorem Seg.ofOwn {w : World} {base g n cap : Nat} {e : TypeId} {zs : List Int} (h : w.ownsRow base e 1 (.slice (some ⟨g, 0, none⟩) n cap) n (zs.map (Value.int .u8))) (hz : ∀ n ∈ zs, 0 ≤ n ∧ n ≤ 255) : Seg w (some ⟨g, 0, none⟩) n zs := by
  have hl : zs.length = n := by have := h.1; simpa using this
  refine ⟨hl, hz, .inr ⟨g, 0, rfl, (h.lt g rfl).2, fun i hi => ?_⟩⟩
  have := h.cellAt i (by omega)
  rw [Nat.zero_add, this]
  rw [List.getElem?_map, List.getD_eq_getElem?_getD, List.getElem?_eq_getElem (by omega)]
  rfl

theorem Seg.range {w : World} {a : Option Addr} {len : Nat} {zs : List Int} (h : Seg w a len zs) (i : Nat) : 0 ≤ zs.getD i 0 ∧ zs.getD i 0 ≤ 255 := by
  rw [List.getD_eq_getElem?_getD]
  cases hi : zs[i]? with
  | none => simp
  | some x => simpa using h.2.1 x (List.mem_of_getElem? hi)

theorem below_own {B : Nat} {w w' : World} (h : Below w.heap.size w w') (hB : B ≤ w.heap.size) {w0 : World} (h0 : Below B w0 w) : Below B w0 w' := h0.trans (h.mono hB)

theorem own_below {w w' : World} {base : Nat} {e : TypeId} {size : Nat} {v : Value} {n : Nat} {xs : List Value} (h : w.ownsRow base e size v n xs) (hb : Below w.heap.size w w') : w'.ownsRow base e size v n xs :=
  h.kept (row := none) ⟨hb.os, hb.tape, hb.output, hb.size, fun k hk _ => hb.block k hk⟩ (by
    rcases h.2 with ⟨rfl, _⟩ | ⟨g, cap, cur, rfl, _⟩
    · exact .inl rfl
    · exact .inr (by simp [Value.ownBlock]))

/-- What the proof's frame tells of a list of bytes that came in. -/
def IsRow (k : IntKind) (w : World) (a : Option Addr) (len cap : Nat) (zs : List Int) : Prop :=
  (a = none ∧ len = 0 ∧ cap = 0 ∧ zs = []) ∨
  ∃ x, a = some x ∧ len ≤ cap ∧ cap ≤ maxLen ∧ zs.length = cap ∧ (∀ i, i < zs.length → w.cell? (x.add i) = some (.int k (zs.getD i 0))) ∧ ∀ n ∈ zs, (Lit.int k n).wf = true

theorem lt_of_cell {w : World} {b off : Nat} {v : Value} (h : w.cell? ⟨b, off, none⟩ = some v) : b < w.heap.size := by
  by_cases hb : b < w.heap.size
  · exact hb
  · have : w.heap[b]? = none := by simp; omega
    simp [World.cell?, this] at h

theorem IsRow.seg {w : World} {a : Option Addr} {len cap : Nat} {zs : List Int} (h : IsRow .u8 w a len cap zs) : Seg w a len (zs.take len) := by
  rcases h with ⟨rfl, rfl, rfl, rfl⟩ | ⟨x, rfl, hl, hm, hz, hcell, hwz⟩
  · exact ⟨rfl, by simp, .inl rfl⟩
  · refine ⟨by simp; omega, fun n hn => ?_, ?_⟩
    · exact bounds_u8 (hwz n (List.mem_of_mem_take hn))
    · by_cases h0 : len = 0
      · exact .inl h0
      · obtain ⟨b, off, spot⟩ := x
        have hc := hcell 0 (by omega)
        have hspot : spot = none := by simpa [Addr.add] using World.cell?_spot hc
        subst hspot
        have hc0 : w.cell? ⟨b, off, none⟩ = some (.int .u8 (zs.getD 0 0)) := by simpa [Addr.add] using hc
        refine .inr ⟨b, off, rfl, lt_of_cell hc0, fun i hi => ?_⟩
        have := hcell i (by omega)
        rw [List.getD_eq_getElem?_getD, List.getElem?_take, if_pos hi, ← List.getD_eq_getElem?_getD]
        by_cases hi0 : i = 0
        · subst hi0
          simpa [Addr.add] using this
        · simpa [Addr.add, hi0] using this

theorem copied_step (zs : List Int) (k len : Nat) (hk : k < len) (hz : zs.length = len) :
    ((zs.take k ++ List.replicate (len - k) 0).map (Value.int .u8)).set k (.int .u8 (zs.getD k 0)) = (zs.take (k + 1) ++ List.replicate (len - (k + 1)) 0).map (Value.int .u8) := by
  have hkz : k < zs.length := by omega
  have e1 : len - k = (len - (k + 1)) + 1 := by omega
  rw [e1, List.replicate_succ, List.take_succ_eq_append_getElem hkz, List.getD_eq_getElem?_getD, List.getElem?_eq_getElem hkz]
  simp only [List.map_append, List.map_cons, List.map_nil, Option.getD_some]
  rw [List.set_append_right _ _ (by simp; omega)]
  simp [Nat.min_eq_left (Nat.le_of_lt hkz)]

end Go.Proofs.YtbaijmkghgnleaaGreatDoor

namespace Go.Proofs.YtbaijmkghgnleaaGreatDoor
open Go.RowKit

theorem wrap_i64_small (n : Nat) (h : n < 9223372036854775808) : IntKind.i64.wrap (n : Int) = (n : Int) := by
  simp [IntKind.wrap, IntKind.bits, IntKind.signed]
  omega

theorem ofInt64 (a : Nat) (ha : a < 18446744073709551616) : (BitVec.ofInt 64 (a : Int)).toNat = a := by
  rw [BitVec.ofInt_natCast, BitVec.toNat_ofNat]; exact Nat.mod_eq_of_lt (by omega)

theorem i64_or_nat (a b : Nat) (ha : a < 9223372036854775808) (hb : b < 9223372036854775808) : bits .or .i64 (a : Int) (b : Int) = ((a ||| b : Nat) : Int) := by
  have hx : a ||| b < 2 ^ 63 := Nat.or_lt_two_pow (by omega) (by omega)
  show IntKind.i64.wrap ((BitVec.ofInt 64 (a : Int) ||| BitVec.ofInt 64 (b : Int)).toNat : Int) = _
  rw [BitVec.toNat_or, ofInt64 a (by omega), ofInt64 b (by omega), wrap_i64_small _ (by omega)]

theorem i64_xor_nat (a b : Nat) (ha : a < 9223372036854775808) (hb : b < 9223372036854775808) : bits .xor .i64 (a : Int) (b : Int) = ((a ^^^ b : Nat) : Int) := by
  have hx : a ^^^ b < 2 ^ 63 := Nat.xor_lt_two_pow (by omega) (by omega)
  show IntKind.i64.wrap ((BitVec.ofInt 64 (a : Int) ^^^ BitVec.ofInt 64 (b : Int)).toNat : Int) = _
  rw [BitVec.toNat_xor, ofInt64 a (by omega), ofInt64 b (by omega), wrap_i64_small _ (by omega)]

theorem i64_and_nat (a b : Nat) (ha : a < 9223372036854775808) (hb : b < 9223372036854775808) : bits .and .i64 (a : Int) (b : Int) = ((a &&& b : Nat) : Int) := by
  have hx : a &&& b < 2 ^ 63 := Nat.and_lt_two_pow _ (by omega)
  show IntKind.i64.wrap ((BitVec.ofInt 64 (a : Int) &&& BitVec.ofInt 64 (b : Int)).toNat : Int) = _
  rw [BitVec.toNat_and, ofInt64 a (by omega), ofInt64 b (by omega), wrap_i64_small _ (by omega)]

/-- A number joined with a byte in its lowest eight bits. -/
theorem join8 (m x : Int) (h0 : 0 ≤ m) (h1 : m < 36028797018963968) (h2 : 0 ≤ x) (h3 : x ≤ 255) : bits .or .i64 (m * 256) x = m * 256 + x := by
  obtain ⟨a, rfl⟩ := Int.eq_ofNat_of_zero_le h0
  obtain ⟨b, rfl⟩ := Int.eq_ofNat_of_zero_le h2
  have e : ((a : Int) * 256) = ((a * 256 : Nat) : Int) := by omega
  rw [e, i64_or_nat _ _ (by omega) (by omega)]
  have := Nat.shiftLeft_add_eq_or_of_lt (b := b) (i := 8) (by omega) a
  rw [Nat.shiftLeft_eq] at this
  rw [show a * 256 = a * 2 ^ 8 from rfl, ← this]
  omega

/-- The number that bytes make, the highest first. -/
def gb (l : List Int) : Int := l.foldl (fun m x => m * 256 + x) 0

theorem gb_snoc (l : List Int) (x : Int) : gb (l ++ [x]) = gb l * 256 + x := by simp [gb, List.foldl_append]

theorem fold_bound (l : List Int) : ∀ (m : Int) (M : Nat), 0 ≤ m → m < (M : Int) → (∀ n ∈ l, 0 ≤ n ∧ n ≤ 255) → 0 ≤ l.foldl (fun m x => m * 256 + x) m ∧ l.foldl (fun m x => m * 256 + x) m < ((M * 256 ^ l.length : Nat) : Int) := by
  induction l with
  | nil => intro m M h0 h1 _; simpa using ⟨h0, h1⟩
  | cons x l ih =>
    intro m M h0 h1 h
    have h2 := h x (by simp)
    have h3 := ih (m * 256 + x) (M * 256) (by omega) (by omega) (fun n hn => h n (by simp [hn]))
    rw [List.foldl_cons, List.length_cons, Nat.pow_succ]
    rw [show M * (256 ^ l.length * 256) = M * 256 * 256 ^ l.length from by rw [Nat.mul_comm (256 ^ l.length) 256, Nat.mul_assoc]]
    exact h3

theorem gb_bound (l : List Int) (h : ∀ n ∈ l, 0 ≤ n ∧ n ≤ 255) : 0 ≤ gb l ∧ gb l < ((256 ^ l.length : Nat) : Int) := by
  have e := fold_bound l 0 1 (by omega) (by omega) h
  rw [Nat.one_mul] at e
  exact e

theorem drop_take_snoc (zs : List Int) (at_ j : Nat) (h : at_ + j < zs.length) : (zs.drop at_).take (j + 1) = (zs.drop at_).take j ++ [zs.getD (at_ + j) 0] := by
  rw [List.take_add_one, List.getElem?_drop, List.getD_eq_getElem?_getD, List.getElem?_eq_getElem h]
  rfl

theorem gb_part_bound (zs : List Int) (at_ j : Nat) (h : ∀ n ∈ zs, 0 ≤ n ∧ n ≤ 255) (hj : j ≤ 7) : 0 ≤ gb ((zs.drop at_).take j) ∧ gb ((zs.drop at_).take j) < 72057594037927936 := by
  have h1 := gb_bound ((zs.drop at_).take j) (fun n hn => h n (List.mem_of_mem_drop (List.mem_of_mem_take hn)))
  have h2 : ((zs.drop at_).take j).length ≤ 7 := by simp; omega
  have h3 : 256 ^ ((zs.drop at_).take j).length ≤ 256 ^ 7 := Nat.pow_le_pow_right (by decide) h2
  have h4 : 256 ^ 7 = 72057594037927936 := by decide
  omega

theorem gb_part_small (zs : List Int) (at_ j : Nat) (h : ∀ n ∈ zs, 0 ≤ n ∧ n ≤ 255) (hj : j ≤ 6) : gb ((zs.drop at_).take j) < 281474976710656 := by
  have h1 := gb_bound ((zs.drop at_).take j) (fun n hn => h n (List.mem_of_mem_drop (List.mem_of_mem_take hn)))
  have h2 : ((zs.drop at_).take j).length ≤ 6 := by simp; omega
  have h3 : 256 ^ ((zs.drop at_).take j).length ≤ 256 ^ 6 := Nat.pow_le_pow_right (by decide) h2
  have h4 : 256 ^ 6 = 281474976710656 := by decide
  omega

end Go.Proofs.YtbaijmkghgnleaaGreatDoor

namespace Go.Proofs.YtbaijmkghgnleaaGreatDoor
open Go.RowKit

/-- The byte of n that stands i bytes from the end. -/
def byteOf (n : Nat) (i : Nat) : Int := (n : Int) / 2 ^ (8 * i) % 256

/-- The first t of the k bytes of n. -/
def pbl (n k t : Nat) : List Int := (List.range t).map fun j => byteOf n (k - 1 - j)

theorem pbl_succ (n k t : Nat) : pbl n k (t + 1) = pbl n k t ++ [byteOf n (k - 1 - t)] := by simp [pbl, List.range_succ]
theorem pbl_len (n k t : Nat) : (pbl n k t).length = t := by simp [pbl]
theorem byteOf_range (n i : Nat) : 0 ≤ byteOf n i ∧ byteOf n i ≤ 255 := by
  unfold byteOf
  generalize (n : Int) / 2 ^ (8 * i) = q
  omega
theorem byteOf_zero (i : Nat) : byteOf 0 i = 0 := by simp [byteOf]
theorem pbl_range (n k t : Nat) : ∀ x ∈ pbl n k t, 0 ≤ x ∧ x ≤ 255 := by
  intro x hx
  simp only [pbl, List.mem_map] at hx
  obtain ⟨j, _, rfl⟩ := hx
  exact byteOf_range _ _

/-- What PutBig answers. -/
def pb (zs : List Int) (n k : Int) : List Int := zs ++ (if 1 ≤ k ∧ k ≤ 8 then pbl n.toNat k.toNat k.toNat else [])

theorem pb_len (zs : List Int) (n k : Int) : (pb zs n k).length ≤ zs.length + 8 := by
  unfold pb
  split
  · rw [List.length_append, pbl_len]; omega
  · simp

end Go.Proofs.YtbaijmkghgnleaaGreatDoor

namespace Go.Proofs.YtbaijmkghgnleaaGreatDoor
open Go.RowKit
set_option linter.unusedVariables false

theorem Tryz.info5 : (Tryz.prog.info? 5).map (fun i => (i.zero, i.size, i.bytes)) = some (some (.int .u8 0), 1, 1) := by kernel_rfl
theorem ret_int {k : IntKind} {a b : Int} (h : a = b) : Ending.returned (.int k a) = .returned (.int k b) := by rw [h]

/-- A slice value that owns its row: the bytes zs, in a row of the call's own from base on. -/
def Owns (w : World) (base : Nat) (a : Option Addr) (n cap : Nat) (zs : List Int) : Prop :=
  w.ownsRow base 5 1 (.slice a n cap) n (zs.map (Value.int .u8)) ∧ ∀ x ∈ zs, 0 ≤ x ∧ x ≤ 255

theorem Owns.seg {w : World} {base n cap : Nat} {a : Option Addr} {zs : List Int} (h : Owns w base a n cap zs) : Seg w a n zs := by
  obtain ⟨h1, h2⟩ := h
  rcases h1.2 with ⟨he, rfl⟩ | ⟨g, cap', cur, he, _⟩
  · have : zs = [] := by have := h1.1; simpa using this
    subst this
    exact ⟨rfl, by simp, .inl rfl⟩
  · simp only [Value.slice.injEq] at he
    obtain ⟨rfl, _, rfl⟩ := he
    exact Seg.ofOwn h1 h2

/-- Only the row of the slice value a may have turned. -/
def Only (w w' : World) (a : Option Addr) : Prop := w.grownBy w' (a.map (·.block))

theorem Owns.only {w w' : World} {base n cap : Nat} {a b : Option Addr} {zs : List Int} (h : Owns w base a n cap zs) (ho : Only w w' b) (hne : a = none ∨ a.map (·.block) ≠ b.map (·.block)) : Owns w' base a n cap zs := by
  refine ⟨h.1.kept ho ?_, h.2⟩
  rcases hne with rfl | hne
  · exact .inl rfl
  · cases a with
    | none => exact .inl rfl
    | some p => exact .inr hne

theorem Owns.below {w w' : World} {base n cap : Nat} {a : Option Addr} {zs : List Int} (h : Owns w base a n cap zs) (hb : Below w.heap.size w w') : Owns w' base a n cap zs := ⟨own_below h.1 hb, h.2⟩

theorem Owns.lt {w : World} {base n cap : Nat} {a : Option Addr} {zs : List Int} (h : Owns w base a n cap zs) : ∀ k, a.map (·.block) = some k → base ≤ k ∧ k < w.heap.size := by
  intro k hk
  cases a with
  | none => simp at hk
  | some p => exact h.1.lt k (by simpa [Value.ownBlock] using hk)

theorem Only.drewN {w w' : World} {a : Option Addr} (h : Only w w' a) (n : Nat) : Only w (w'.drewN n) a := ⟨h.os, h.tape, h.output, h.size, h.block⟩

theorem Only.below {w0 w w' : World} {B : Nat} {a : Option Addr} (h : Only w w' a) (h0 : Below B w0 w) (hB : B ≤ w.heap.size) (ha : ∀ k, a.map (·.block) = some k → B ≤ k) : Below B w0 w' := h0.grown h hB ha

/-- A world in which nothing but draws has come. -/
def Still (w w' : World) : Prop := ∃ n, w' = w.drewN n

theorem Still.seg {w w' : World} (h : Still w w') {a : Option Addr} {n : Nat} {zs : List Int} (hs : Seg w a n zs) : Seg w' a n zs := by
  obtain ⟨m, rfl⟩ := h
  exact hs

theorem Still.owns {w w' : World} (h : Still w w') {base n cap : Nat} {a : Option Addr} {zs : List Int} (hs : Owns w base a n cap zs) : Owns w' base a n cap zs := by
  obtain ⟨m, rfl⟩ := h
  exact hs

theorem Still.below {w0 w w' : World} (h : Still w w') {B : Nat} (hs : Below B w0 w) : Below B w0 w' := by
  obtain ⟨m, rfl⟩ := h
  exact below_drewN hs m

theorem Still.size {w w' : World} (h : Still w w') : w'.heap.size = w.heap.size := by
  obtain ⟨m, rfl⟩ := h
  rfl

theorem hidden {p : Prop} (h : p) : Hid p := h

theorem ret_bool {a b : Bool} (h : a = b) : Ending.returned (.bool a) = .returned (.bool b) := by rw [h]

theorem cells_ints {w : World} {b off len : Nat} {zs : List Int} (hs : Seg w (some ⟨b, off, none⟩) len zs) : ∀ j u, (zs.map (Value.int .u8))[j]? = some u → w.cell? ((⟨b, off, none⟩ : Addr).add j) = some u := by
  intro j u hu
  rw [List.getElem?_map] at hu
  have hj : j < zs.length := by
    by_cases h : j < zs.length
    · exact h
    · rw [List.getElem?_eq_none (by omega)] at hu; simp at hu
  rw [List.getElem?_eq_getElem hj] at hu
  simp only [Option.map_some, Option.some.injEq] at hu
  rcases hs.2.2 with h | ⟨b', off', he, _, hc⟩
  · have := hs.1; omega
  · simp only [Option.some.injEq, Addr.mk.injEq, and_true] at he
    obtain ⟨rfl, rfl⟩ := he
    have := hc j (by have := hs.1; omega)
    rw [List.getD_eq_getElem?_getD, List.getElem?_eq_getElem hj, Option.getD_some] at this
    by_cases h0 : j = 0
    · subst h0; simpa [Addr.add, hu] using this
    · simpa [Addr.add, h0, hu] using this

theorem ints_one (zs : List Int) : ∀ u ∈ zs.map (Value.int .u8), u.oneCell' = true := by
  intro u hu
  simp only [List.mem_map] at hu
  obtain ⟨x, _, rfl⟩ := hu
  rfl

theorem one_new (w : World) (x : Int) : ∀ j u, [Value.int .u8 x][j]? = some u → (w.alloc (.cells #[.int .u8 x] 5)).cell? ((⟨w.heap.size, 0, none⟩ : Addr).add j) = some u := by
  intro j u hj
  match j, hj with
  | 0, hj => simp at hj; subst hj; simp [Addr.add]

theorem shape_of_owns {w : World} {base n : Nat} {v : Value} {xs : List Value} (h : w.ownsRow base 5 1 v n xs) : ∃ a cap, v = .slice a n cap := by
  rcases h.2 with ⟨rfl, rfl⟩ | ⟨g, cap, cur, rfl, _⟩
  · exact ⟨_, _, rfl⟩
  · exact ⟨_, _, rfl⟩

end Go.Proofs.YtbaijmkghgnleaaGreatDoor

namespace Go.Proofs.YtbaijmkghgnleaaGreatDoor
open Go.RowKit
set_option linter.unusedVariables false

set_option maxRecDepth 100000 in
theorem andNot_tab : ∀ B : Nat, B < 9 → ∀ F : Nat, F < 256 → bits .andNot .i64 (F : Int) ((2 ^ B - 1 : Nat) : Int) = ((F / 2 ^ B * 2 ^ B : Nat) : Int) := by decide +kernel

theorem or_join (q B n : Nat) (hn : n < 2 ^ B) (hq : q * 2 ^ B < 9223372036854775808) (hB : B ≤ 62) : bits .or .i64 ((q * 2 ^ B : Nat) : Int) (n : Int) = ((q * 2 ^ B + n : Nat) : Int) := by
  have h2 : 2 ^ B ≤ 2 ^ 62 := Nat.pow_le_pow_right (by decide) hB
  rw [i64_or_nat _ _ hq (by omega)]
  have := Nat.shiftLeft_add_eq_or_of_lt (b := n) (i := B) hn q
  rw [Nat.shiftLeft_eq] at this
  rw [← this]

theorem mask_form (B : Nat) (h1 : 1 ≤ B) (h8 : B ≤ 8) : wrap64 (wrap64 ((2 : Int) ^ B) - 1) = ((2 ^ B - 1 : Nat) : Int) := by
  have : B = 1 ∨ B = 2 ∨ B = 3 ∨ B = 4 ∨ B = 5 ∨ B = 6 ∨ B = 7 ∨ B = 8 := by omega
  rcases this with rfl | rfl | rfl | rfl | rfl | rfl | rfl | rfl <;> decide +kernel

theorem pow_small (B : Nat) (h1 : 1 ≤ B) (h8 : B ≤ 8) : 2 ≤ 2 ^ B ∧ 2 ^ B ≤ 256 := by
  have : B = 1 ∨ B = 2 ∨ B = 3 ∨ B = 4 ∨ B = 5 ∨ B = 6 ∨ B = 7 ∨ B = 8 := by omega
  rcases this with rfl | rfl | rfl | rfl | rfl | rfl | rfl | rfl <;> decide +kernel

/-- A group of seven bits with the mark that more follow. -/
theorem group_form (v : Nat) (hv : v ≤ 16777216) : bits .or .i64 (bits .and .i64 (v : Int) 127) 128 = ((v % 128 + 128 : Nat) : Int) := by
  have e : (v : Int) % 128 = ((v % 128 : Nat) : Int) := by omega
  have hc := or_join 1 7 (v % 128) (by omega) (by omega) (by omega)
  have e2 : bits .or .i64 ((v % 128 : Nat) : Int) 128 = bits .or .i64 (128 : Int) ((v % 128 : Nat) : Int) := by simp only [bits, BitVec.or_comm]
  rw [i64_and127, e, e2]
  have e3 : ((1 * 2 ^ 7 : Nat) : Int) = (128 : Int) := rfl
  rw [e3] at hc
  rw [hc]
  omega

/-- The groups of v, the lowest first; at most k of them. -/
def grp : Nat → Nat → List Int
  | 0, _ => []
  | k + 1, v => if 127 < v then ((v % 128 + 128 : Nat) : Int) :: grp k (v / 128) else [(v : Int)]

theorem grp_len (k : Nat) : ∀ v, (grp k v).length ≤ k := by
  induction k with
  | zero => intro v; simp [grp]
  | succ k ih =>
    intro v
    unfold grp
    split
    · have := ih (v / 128); simp; exact this
    · simp

theorem grp_range (k : Nat) : ∀ v, ∀ x ∈ grp k v, 0 ≤ x ∧ x ≤ 255 := by
  induction k with
  | zero => intro v x hx; simp [grp] at hx
  | succ k ih =>
    intro v x hx
    unfold grp at hx
    split at hx
    · rcases List.mem_cons.1 hx with rfl | hx
      · omega
      · exact ih _ x hx
    · obtain rfl : x = (v : Int) := by simpa using hx
      omega

/-- The bytes of n (up to 2^24) behind first, in a prefix of B bits. -/
def pfx (B F n : Nat) : List Int :=
  if n < 2 ^ B - 1 then [((F / 2 ^ B * 2 ^ B + n : Nat) : Int)] else ((F / 2 ^ B * 2 ^ B + (2 ^ B - 1) : Nat) : Int) :: grp 5 (n - (2 ^ B - 1))

theorem top_small (B F : Nat) (h1 : 1 ≤ B) (h8 : B ≤ 8) (hF : F ≤ 255) : F / 2 ^ B * 2 ^ B + (2 ^ B - 1) ≤ 255 := by
  have : B = 1 ∨ B = 2 ∨ B = 3 ∨ B = 4 ∨ B = 5 ∨ B = 6 ∨ B = 7 ∨ B = 8 := by omega
  rcases this with rfl | rfl | rfl | rfl | rfl | rfl | rfl | rfl <;> simp <;> omega

theorem pfx_range (B F n : Nat) (h1 : 1 ≤ B) (h8 : B ≤ 8) (hF : F ≤ 255) : ∀ x ∈ pfx B F n, 0 ≤ x ∧ x ≤ 255 := by
  intro x hx
  have ht := top_small B F h1 h8 hF
  unfold pfx at hx
  generalize F / 2 ^ B * 2 ^ B = f at *
  generalize 2 ^ B - 1 = m at *
  split at hx
  · have hx2 := List.mem_singleton.1 hx
    omega
  · rcases List.mem_cons.1 hx with rfl | hx
    · omega
    · exact grp_range _ _ x hx

theorem pfx_len (B F n : Nat) : (pfx B F n).length ≤ 6 := by
  unfold pfx
  split
  · simp
  · have := grp_len 5 (n - (2 ^ B - 1)); simp; omega

/-- What PutPrefix answers. -/
def putPfx (zs : List Int) (bits first n : Int) : List Int :=
  zs ++ (if 1 ≤ bits ∧ bits ≤ 8 ∧ 0 ≤ first ∧ first ≤ 255 then pfx bits.toNat first.toNat (min n 16777216).toNat else [])

end Go.Proofs.YtbaijmkghgnleaaGreatDoor

namespace Go.Proofs.YtbaijmkghgnleaaGreatDoor
open Go.RowKit
set_option linter.unusedVariables false

/-- The groups behind a full prefix: at most f of them, the next one's weight s, what is read so far n, the place p. -/
def gpf : Nat → List Int → Int → Int → Int → Int × Int × Bool
  | 0, _, _, _, _ => (0, 0, false)
  | _ + 1, [], _, _, _ => (0, 0, false)
  | f + 1, c :: r, s, n, p => if c < 128 then (if n + c % 128 * s ≤ 16777216 then (n + c % 128 * s, p + 1, true) else (0, 0, false)) else gpf f r (s * 128) (n + c % 128 * s) (p + 1)

/-- What GetPrefix answers. -/
def getPfx (zs : List Int) (at_ bits : Int) : Int × Int × Bool :=
  if 1 ≤ bits ∧ bits ≤ 8 ∧ 0 ≤ at_ ∧ at_ < (zs.length : Int) then
    (if zs.getD at_.toNat 0 % 2 ^ bits.toNat < 2 ^ bits.toNat - 1 then (zs.getD at_.toNat 0 % 2 ^ bits.toNat, at_ + 1, true) else gpf 4 (zs.drop (at_.toNat + 1)) 1 (2 ^ bits.toNat - 1) (at_ + 1))
  else (0, 0, false)

theorem gpf_step (f C n : Nat) (r : List Int) (S : Nat) (p : Int) : gpf (f + 1) ((C : Int) :: r) (S : Int) (n : Int) p =
    if C < 128 then (if n + C % 128 * S ≤ 16777216 then (((n + C % 128 * S : Nat) : Int), p + 1, true) else (0, 0, false)) else gpf f r ((S * 128 : Nat) : Int) ((n + C % 128 * S : Nat) : Int) (p + 1) := by
  have e : (n : Int) + (C : Int) % 128 * (S : Int) = ((n + C % 128 * S : Nat) : Int) := by
    rw [Int.natCast_add, Int.natCast_mul]
    have : ((C % 128 : Nat) : Int) = (C : Int) % 128 := by omega
    rw [this]
  have e2 : ((S * 128 : Nat) : Int) = (S : Int) * 128 := by omega
  rw [gpf, e, e2]
  by_cases hC : C < 128
  · rw [if_pos hC, if_pos (by omega)]
    by_cases hle : n + C % 128 * S ≤ 16777216
    · rw [if_pos hle, if_pos (by omega)]
    · rw [if_neg hle, if_neg (by omega)]
  · rw [if_neg hC, if_neg (by omega)]

theorem and_mod (x : Nat) (B : Nat) (hx : x ≤ 255) (hB : B ≤ 8) : bits .and .i64 (x : Int) ((2 ^ B - 1 : Nat) : Int) = ((x % 2 ^ B : Nat) : Int) := by
  have h2 : 2 ^ B ≤ 2 ^ 8 := Nat.pow_le_pow_right (by decide) hB
  rw [i64_and_nat x _ (by omega) (by omega), Nat.and_two_pow_sub_one_eq_mod]

end Go.Proofs.YtbaijmkghgnleaaGreatDoor

namespace Go.Proofs.YtbaijmkghgnleaaGreatDoor
open Go.RowKit
set_option linter.unusedVariables false

theorem gpf_nil (f : Nat) (s n p : Int) : gpf f [] s n p = (0, 0, false) := by cases f <;> rfl

theorem gpf_back (f : Nat) : ∀ (g v S n0 : Nat) (p : Int), 1 ≤ f → f ≤ g → v < 128 ^ f →
    gpf f (grp g v) (S : Int) (n0 : Int) p = if n0 + v * S ≤ 16777216 then (((n0 + v * S : Nat) : Int), p + ((grp g v).length : Int), true) else (0, 0, false) := by
  induction f with
  | zero => intro g v S n0 p h; omega
  | succ f ih =>
    intro g v S n0 p _ hg hv
    obtain ⟨g', rfl⟩ : ∃ g', g = g' + 1 := ⟨g - 1, by omega⟩
    by_cases h : 127 < v
    · have e : grp (g' + 1) v = ((v % 128 + 128 : Nat) : Int) :: grp g' (v / 128) := by rw [grp, if_pos h]
      have hf : 1 ≤ f := by
        rcases Nat.eq_zero_or_pos f with rfl | hf
        · simp at hv; omega
        · exact hf
      have hq : v / 128 < 128 ^ f := by rw [Nat.pow_succ] at hv; omega
      rw [e, gpf_step, if_neg (by omega), ih g' (v / 128) (S * 128) _ (p + 1) hf (by omega) hq]
      have hm : (v % 128 + 128) % 128 = v % 128 := by omega
      have hs : n0 + (v % 128 + 128) % 128 * S + v / 128 * (S * 128) = n0 + v * S := by
        rw [hm, Nat.add_assoc]
        have : v / 128 * (S * 128) = (v / 128 * 128) * S := by rw [Nat.mul_comm S 128, ← Nat.mul_assoc]
        rw [this, ← Nat.add_mul]
        have : v % 128 + v / 128 * 128 = v := by omega
        rw [this]
      rw [hs]
      have hp : p + 1 + ((grp g' (v / 128)).length : Int) = p + (((((v % 128 + 128 : Nat) : Int) :: grp g' (v / 128)).length : Nat) : Int) := by simp; omega
      rw [hp]
    · have e : grp (g' + 1) v = [(v : Int)] := by rw [grp, if_neg h]
      rw [e, gpf_step, if_pos (by omega), Nat.mod_eq_of_lt (by omega)]
      simp

theorem grp_ne (g v : Nat) (h : 1 ≤ g) : grp g v ≠ [] := by
  obtain ⟨g', rfl⟩ : ∃ g', g = g' + 1 := ⟨g - 1, by omega⟩
  rw [grp]; split <;> simp

theorem gpf_cut (f : Nat) : ∀ (g v S n0 : Nat) (p : Int), gpf f (grp g v).dropLast (S : Int) (n0 : Int) p = (0, 0, false) := by
  induction f with
  | zero => intro g v S n0 p; rfl
  | succ f ih =>
    intro g v S n0 p
    cases g with
    | zero => rfl
    | succ g' =>
      by_cases h : 127 < v
      · have e : grp (g' + 1) v = ((v % 128 + 128 : Nat) : Int) :: grp g' (v / 128) := by rw [grp, if_pos h]
        rw [e]
        cases g' with
        | zero => exact gpf_nil _ _ _ _
        | succ g2 =>
          rw [List.dropLast_cons_of_ne_nil (grp_ne (g2 + 1) (v / 128) (by omega)), gpf_step, if_neg (by omega)]
          exact ih _ _ _ _ _
      · have e : grp (g' + 1) v = [(v : Int)] := by rw [grp, if_neg h]
        rw [e]
        rfl

/-- The first byte of a prefixed number. -/
theorem pfx_head (zs : List Int) (B F n : Nat) : (zs ++ pfx B F n).getD zs.length 0 = ((F / 2 ^ B * 2 ^ B + min n (2 ^ B - 1) : Nat) : Int) := by
  unfold pfx
  generalize F / 2 ^ B * 2 ^ B = f
  generalize 2 ^ B - 1 = m
  split
  · rename_i h; simp [List.getD_eq_getElem?_getD]; omega
  · rename_i h; simp [List.getD_eq_getElem?_getD]; omega

theorem head_mod (B F k : Nat) (hB : 1 ≤ B) (hk : k < 2 ^ B) : (((F / 2 ^ B * 2 ^ B + k : Nat) : Int) % 2 ^ B = (k : Int)) := by
  have : ((2 : Int) ^ B) = ((2 ^ B : Nat) : Int) := by simp
  rw [this, ← Int.natCast_emod, Nat.mul_add_mod', Nat.mod_eq_of_lt hk]

theorem head_div (B F k : Nat) (hk : k < 2 ^ B) : (F / 2 ^ B * 2 ^ B + k) / 2 ^ B = F / 2 ^ B := by
  have h0 : 0 < 2 ^ B := by omega
  rw [Nat.add_comm, Nat.add_mul_div_right _ _ h0, Nat.div_eq_of_lt hk, Nat.zero_add]

theorem pfx_back (zs : List Int) (B F n : Nat) (h1 : 1 ≤ B) (h8 : B ≤ 8) (hn : n ≤ 16777216) :
    getPfx (zs ++ pfx B F n) (zs.length : Int) (B : Int) = ((n : Int), ((zs ++ pfx B F n).length : Int), true) := by
  obtain ⟨hp1, hp2⟩ := pow_small B h1 h8
  have hlen : 0 < (pfx B F n).length := by unfold pfx; split <;> simp
  have hpow : ((2 : Int) ^ B) = ((2 ^ B : Nat) : Int) := by simp
  rw [getPfx, if_pos ⟨by omega, by omega, by omega, by simp; omega⟩, Int.toNat_natCast, Int.toNat_natCast, pfx_head, head_mod B F _ h1 (by omega)]
  by_cases h : n < 2 ^ B - 1
  · rw [if_pos (by rw [hpow]; omega), Nat.min_eq_left (by omega)]
    have e : (pfx B F n).length = 1 := by unfold pfx; rw [if_pos h]; rfl
    simp [e]
  · rw [if_neg (by rw [hpow]; omega)]
    have e : pfx B F n = ((F / 2 ^ B * 2 ^ B + (2 ^ B - 1) : Nat) : Int) :: grp 5 (n - (2 ^ B - 1)) := by unfold pfx; rw [if_neg h]
    have ed : (zs ++ pfx B F n).drop (zs.length + 1) = grp 5 (n - (2 ^ B - 1)) := by
      rw [e, List.drop_append]; simp
    have em : ((2 : Int) ^ B - 1) = ((2 ^ B - 1 : Nat) : Int) := by rw [hpow]; omega
    have hb := gpf_back 4 5 (n - (2 ^ B - 1)) 1 (2 ^ B - 1) ((zs.length : Int) + 1) (by decide) (by decide) (by omega)
    rw [ed, em]
    have e1 : ((1 : Nat) : Int) = 1 := rfl
    rw [e1] at hb
    rw [hb]
    have es : 2 ^ B - 1 + (n - (2 ^ B - 1)) * 1 = n := by omega
    rw [es, if_pos hn, e]
    simp
    omega

theorem pfx_cut (zs : List Int) (B F n : Nat) (h1 : 1 ≤ B) (h8 : B ≤ 8) :
    getPfx ((zs ++ pfx B F n).take ((zs ++ pfx B F n).length - 1)) (zs.length : Int) (B : Int) = (0, 0, false) := by
  obtain ⟨hp1, hp2⟩ := pow_small B h1 h8
  have hpow : ((2 : Int) ^ B) = ((2 ^ B : Nat) : Int) := by simp
  rw [← List.dropLast_eq_take]
  by_cases h : n < 2 ^ B - 1
  · have e : pfx B F n = [((F / 2 ^ B * 2 ^ B + n : Nat) : Int)] := by unfold pfx; rw [if_pos h]
    rw [e, List.dropLast_concat, getPfx, if_neg (by omega)]
  · have e : pfx B F n = ((F / 2 ^ B * 2 ^ B + (2 ^ B - 1) : Nat) : Int) :: grp 5 (n - (2 ^ B - 1)) := by unfold pfx; rw [if_neg h]
    have ed : (zs ++ pfx B F n).dropLast = zs ++ (((F / 2 ^ B * 2 ^ B + (2 ^ B - 1) : Nat) : Int) :: (grp 5 (n - (2 ^ B - 1))).dropLast) := by
      rw [e, List.dropLast_append_of_ne_nil (by simp), List.dropLast_cons_of_ne_nil (grp_ne _ _ (by decide))]
    rw [ed, getPfx, if_pos ⟨by omega, by omega, by omega, by simp; omega⟩, Int.toNat_natCast, Int.toNat_natCast]
    have eh : (zs ++ (((F / 2 ^ B * 2 ^ B + (2 ^ B - 1) : Nat) : Int) :: (grp 5 (n - (2 ^ B - 1))).dropLast)).getD zs.length 0 = ((F / 2 ^ B * 2 ^ B + (2 ^ B - 1) : Nat) : Int) := by simp [List.getD_eq_getElem?_getD]
    rw [eh, head_mod B F _ h1 (by omega), if_neg (by rw [hpow]; omega)]
    have em : ((2 : Int) ^ B - 1) = ((2 ^ B - 1 : Nat) : Int) := by rw [hpow]; omega
    have edr : (zs ++ (((F / 2 ^ B * 2 ^ B + (2 ^ B - 1) : Nat) : Int) :: (grp 5 (n - (2 ^ B - 1))).dropLast)).drop (zs.length + 1) = (grp 5 (n - (2 ^ B - 1))).dropLast := by
      rw [List.drop_append]; simp
    rw [edr, em]
    exact gpf_cut 4 5 _ 1 _ _

end Go.Proofs.YtbaijmkghgnleaaGreatDoor
