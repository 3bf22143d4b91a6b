/- Plain facts on rows of bytes that a call reads or makes: no statement of the program; no condition. Plain arithmetic of bytes and bits: numbers out of bytes, the bits of small numbers; no program in it. The bytes that PutBig puts, the highest first; no program in it. Rows of bytes that a call has made, and what stays of them; no statement of the program but its table of types. -/
import Derived.WalkKit
import Derived.WalkSpells
import Derived.WalkLawsBesides
import Derived.OpenShut
import Derived.Laws.BitsAllLaws
import Derived.Test.YtlkgopoicpnacaaGreatDoorRows
import Derived.Deep.QuietTactic
import Derived.BigQuiet
import Derived.Laws.CopyOwn
namespace Go.Proofs.YtlkgopoicpnacaaGreatDoor
open Go.RowKit

/-- The slice (a, len) holds the bytes zs in the world w. -/
def Seg (w : World) (a : Option Addr) (len : Nat) (zs : List Int) : Prop :=
  zs.length = len ∧ (∀ n ∈ zs, 0 ≤ n ∧ n ≤ 255) ∧
  (len = 0 ∨ ∃ b off, a = some ⟨b, off, none⟩ ∧ b < w.heap.size ∧ ∀ i, i < len → w.cell? ⟨b, off + i, none⟩ = some (.int .u8 (zs.getD i 0)))

theorem Seg.below {w w' : World} {a : Option Addr} {len : Nat} {zs : List Int} (h : Seg w a len zs) (hb : Below w.heap.size w w') : Seg w' a len zs := by
  obtain ⟨h1, h2, h3⟩ := h
  refine ⟨h1, h2, ?_⟩
  rcases h3 with h3 | ⟨b, off, rfl, hlt, hc⟩
  · exact .inl h3
  · exact .inr ⟨b, off, rfl, Nat.lt_of_lt_of_le hlt hb.size, fun i hi => (hb.cell (p := ⟨b, off + i, none⟩) hlt).trans (hc i hi)⟩

theorem Seg.ofOwn {w : World} {base g n cap : Nat} {e : TypeId} {zs : List Int} (h : w.ownsRow base e 1 (.slice (some ⟨g, 0, none⟩) n cap) n (zs.map (Value.int .u8))) (hz : ∀ n ∈ zs, 0 ≤ n ∧ n ≤ 255) : Seg w (some ⟨g, 0, none⟩) n zs := by
  have hl : zs.length = n := by have := h.1; simpa using this
  refine ⟨hl, hz, .inr ⟨g, 0, rfl, (h.lt g rfl).2, fun i hi => ?_⟩⟩
  have := h.cellAt i (by omega)
  rw [Nat.zero_add, this]
  rw [List.getElem?_map, List.getD_eq_getElem?_getD, List.getElem?_eq_getElem (by omega)]
  rfl

theorem Seg.range {w : World} {a : Option Addr} {len : Nat} {zs : List Int} (h : Seg w a len zs) (i : Nat) : 0 ≤ zs.getD i 0 ∧ zs.getD i 0 ≤ 255 := by
  rw [List.getD_eq_getElem?_getD]
  cases hi : zs[i]? with
  | none => simp
  | some x => simpa using h.2.1 x (List.mem_of_getElem? hi)

theorem below_own {B : Nat} {w w' : World} (h : Below w.heap.size w w') (hB : B ≤ w.heap.size) {w0 : World} (h0 : Below B w0 w) : Below B w0 w' := h0.trans (h.mono hB)

theorem own_below {w w' : World} {base : Nat} {e : TypeId} {size : Nat} {v : Value} {n : Nat} {xs : List Value} (h : w.ownsRow base e size v n xs) (hb : Below w.heap.size w w') : w'.ownsRow base e size v n xs :=
  h.kept (row := none) ⟨hb.os, hb.tape, hb.output, hb.size, fun k hk _ => hb.block k hk⟩ (by
    rcases h.2 with ⟨rfl, _⟩ | ⟨g, cap, cur, rfl, _⟩
    · exact .inl rfl
    · exact .inr (by simp [Value.ownBlock]))

/-- What the proof's frame tells of a list of bytes that came in. -/
def IsRow (k : IntKind) (w : World) (a : Option Addr) (len cap : Nat) (zs : List Int) : Prop :=
  (a = none ∧ len = 0 ∧ cap = 0 ∧ zs = []) ∨
  ∃ x, a = some x ∧ len ≤ cap ∧ cap ≤ maxLen ∧ zs.length = cap ∧ (∀ i, i < zs.length → w.cell? (x.add i) = some (.int k (zs.getD i 0))) ∧ ∀ n ∈ zs, (Lit.int k n).wf = true

theorem lt_of_cell {w : World} {b off : Nat} {v : Value} (h : w.cell? ⟨b, off, none⟩ = some v) : b < w.heap.size := by
  by_cases hb : b < w.heap.size
  · exact hb
  · have : w.heap[b]? = none := by simp; omega
    simp [World.cell?, this] at h

theorem IsRow.seg {w : World} {a : Option Addr} {len cap : Nat} {zs : List Int} (h : IsRow .u8 w a len cap zs) : Seg w a len (zs.take len) := by
  rcases h with ⟨rfl, rfl, rfl, rfl⟩ | ⟨x, rfl, hl, hm, hz, hcell, hwz⟩
  · exact ⟨rfl, by simp, .inl rfl⟩
  · refine ⟨by simp; omega, fun n hn => ?_, ?_⟩
    · exact bounds_u8 (hwz n (List.mem_of_mem_take hn))
    · by_cases h0 : len = 0
      · exact .inl h0
      · obtain ⟨b, off, spot⟩ := x
        have hc := hcell 0 (by omega)
        have hspot : spot = none := by simpa [Addr.add] using World.cell?_spot hc
        subst hspot
        have hc0 : w.cell? ⟨b, off, none⟩ = some (.int .u8 (zs.getD 0 0)) := by simpa [Addr.add] using hc
        refine .inr ⟨b, off, rfl, lt_of_cell hc0, fun i hi => ?_⟩
        have := hcell i (by omega)
        rw [List.getD_eq_getElem?_getD, List.getElem?_take, if_pos hi, ← List.getD_eq_getElem?_getD]
        by_cases hi0 : i = 0
        · subst hi0
          simpa [Addr.add] using this
        · simpa [Addr.add, hi0] using this

theorem copied_step (zs : List Int) (k len : Nat) (hk : k < len) (hz : zs.length = len) :
    ((zs.take k ++ List.replicate (len - k) 0).map (Value.int .u8)).set k (.int .u8 (zs.getD k 0)) = (zs.take (k + 1) ++ List.replicate (len - (k + 1)) 0).map (Value.int .u8) := by
  have hkz : k < zs.length := by omega
  have e1 : len - k = (len - (k + 1)) + 1 := by omega
  rw [e1, List.replicate_succ, List.take_succ_eq_append_getElem hkz, List.getD_eq_getElem?_getD, List.getElem?_eq_getElem hkz]
  simp only [List.map_append, List.map_cons, List.map_nil, Option.getD_some]
  rw [List.set_append_right _ _ (by simp; omega)]
  simp [Nat.min_eq_left (Nat.le_of_lt hkz)]

end Go.Proofs.YtlkgopoicpnacaaGreatDoor

namespace Go.Proofs.YtlkgopoicpnacaaGreatDoor
open Go.RowKit

theorem wrap_i64_small (n : Nat) (h : n < 9223372036854775808) : IntKind.i64.wrap (n : Int) = (n : Int) := by
  simp [IntKind.wrap, IntKind.bits, IntKind.signed]
  omega

theorem ofInt64 (a : Nat) (ha : a < 18446744073709551616) : (BitVec.ofInt 64 (a : Int)).toNat = a := by
  rw [BitVec.ofInt_natCast, BitVec.toNat_ofNat]; exact Nat.mod_eq_of_lt (by omega)

theorem i64_or_nat (a b : Nat) (ha : a < 9223372036854775808) (hb : b < 9223372036854775808) : bits .or .i64 (a : Int) (b : Int) = ((a ||| b : Nat) : Int) := by
  have hx : a ||| b < 2 ^ 63 := Nat.or_lt_two_pow (by omega) (by omega)
  show IntKind.i64.wrap ((BitVec.ofInt 64 (a : Int) ||| BitVec.ofInt 64 (b : Int)).toNat : Int) = _
  rw [BitVec.toNat_or, ofInt64 a (by omega), ofInt64 b (by omega), wrap_i64_small _ (by omega)]

theorem i64_xor_nat (a b : Nat) (ha : a < 9223372036854775808) (hb : b < 9223372036854775808) : bits .xor .i64 (a : Int) (b : Int) = ((a ^^^ b : Nat) : Int) := by
  have hx : a ^^^ b < 2 ^ 63 := Nat.xor_lt_two_pow (by omega) (by omega)
  show IntKind.i64.wrap ((BitVec.ofInt 64 (a : Int) ^^^ BitVec.ofInt 64 (b : Int)).toNat : Int) = _
  rw [BitVec.toNat_xor, ofInt64 a (by omega), ofInt64 b (by omega), wrap_i64_small _ (by omega)]

theorem i64_and_nat (a b : Nat) (ha : a < 9223372036854775808) (hb : b < 9223372036854775808) : bits .and .i64 (a : Int) (b : Int) = ((a &&& b : Nat) : Int) := by
  have hx : a &&& b < 2 ^ 63 := Nat.and_lt_two_pow _ (by omega)
  show IntKind.i64.wrap ((BitVec.ofInt 64 (a : Int) &&& BitVec.ofInt 64 (b : Int)).toNat : Int) = _
  rw [BitVec.toNat_and, ofInt64 a (by omega), ofInt64 b (by omega), wrap_i64_small _ (by omega)]

/-- A number joined with a byte in its lowest eight bits. -/
theorem join8 (m x : Int) (h0 : 0 ≤ m) (h1 : m < 36028797018963968) (h2 : 0 ≤ x) (h3 : x ≤ 255) : bits .or .i64 (m * 256) x = m * 256 + x := by
  obtain ⟨a, rfl⟩ := Int.eq_ofNat_of_zero_le h0
  obtain ⟨b, rfl⟩ := Int.eq_ofNat_of_zero_le h2
  have e : ((a : Int) * 256) = ((a * 256 : Nat) : Int) := by omega
  rw [e, i64_or_nat _ _ (by omega) (by omega)]
  have := Nat.shiftLeft_add_eq_or_of_lt (b := b) (i := 8) (by omega) a
  rw [Nat.shiftLeft_eq] at this
  rw [show a * 256 = a * 2 ^ 8 from rfl, ← this]
  omega

/-- The number that bytes make, the highest first. -/
def gb (l : List Int) : Int := l.foldl (fun m x => m * 256 + x) 0

theorem gb_snoc (l : List Int) (x : Int) : gb (l ++ [x]) = gb l * 256 + x := by simp [gb, List.foldl_append]

theorem fold_bound (l : List Int) : ∀ (m : Int) (M : Nat), 0 ≤ m → m < (M : Int) → (∀ n ∈ l, 0 ≤ n ∧ n ≤ 255) → 0 ≤ l.foldl (fun m x => m * 256 + x) m ∧ l.foldl (fun m x => m * 256 + x) m < ((M * 256 ^ l.length : Nat) : Int) := by
  induction l with
  | nil => intro m M h0 h1 _; simpa using ⟨h0, h1⟩
  | cons x l ih =>
    intro m M h0 h1 h
    have h2 := h x (by simp)
    have h3 := ih (m * 256 + x) (M * 256) (by omega) (by omega) (fun n hn => h n (by simp [hn]))
    rw [List.foldl_cons, List.length_cons, Nat.pow_succ]
    rw [show M * (256 ^ l.length * 256) = M * 256 * 256 ^ l.length from by rw [Nat.mul_comm (256 ^ l.length) 256, Nat.mul_assoc]]
    exact h3

theorem gb_bound (l : List Int) (h : ∀ n ∈ l, 0 ≤ n ∧ n ≤ 255) : 0 ≤ gb l ∧ gb l < ((256 ^ l.length : Nat) : Int) := by
  have e := fold_bound l 0 1 (by omega) (by omega) h
  rw [Nat.one_mul] at e
  exact e

theorem drop_take_snoc (zs : List Int) (at_ j : Nat) (h : at_ + j < zs.length) : (zs.drop at_).take (j + 1) = (zs.drop at_).take j ++ [zs.getD (at_ + j) 0] := by
  rw [List.take_add_one, List.getElem?_drop, List.getD_eq_getElem?_getD, List.getElem?_eq_getElem h]
  rfl

theorem gb_part_bound (zs : List Int) (at_ j : Nat) (h : ∀ n ∈ zs, 0 ≤ n ∧ n ≤ 255) (hj : j ≤ 7) : 0 ≤ gb ((zs.drop at_).take j) ∧ gb ((zs.drop at_).take j) < 72057594037927936 := by
  have h1 := gb_bound ((zs.drop at_).take j) (fun n hn => h n (List.mem_of_mem_drop (List.mem_of_mem_take hn)))
  have h2 : ((zs.drop at_).take j).length ≤ 7 := by simp; omega
  have h3 : 256 ^ ((zs.drop at_).take j).length ≤ 256 ^ 7 := Nat.pow_le_pow_right (by decide) h2
  have h4 : 256 ^ 7 = 72057594037927936 := by decide
  omega

theorem gb_part_small (zs : List Int) (at_ j : Nat) (h : ∀ n ∈ zs, 0 ≤ n ∧ n ≤ 255) (hj : j ≤ 6) : gb ((zs.drop at_).take j) < 281474976710656 := by
  have h1 := gb_bound ((zs.drop at_).take j) (fun n hn => h n (List.mem_of_mem_drop (List.mem_of_mem_take hn)))
  have h2 : ((zs.drop at_).take j).length ≤ 6 := by simp; omega
  have h3 : 256 ^ ((zs.drop at_).take j).length ≤ 256 ^ 6 := Nat.pow_le_pow_right (by decide) h2
  have h4 : 256 ^ 6 = 281474976710656 := by decide
  omega

end Go.Proofs.YtlkgopoicpnacaaGreatDoor

namespace Go.Proofs.YtlkgopoicpnacaaGreatDoor
open Go.RowKit

/-- The byte of n that stands i bytes from the end. -/
def byteOf (n : Nat) (i : Nat) : Int := (n : Int) / 2 ^ (8 * i) % 256

/-- The first t of the k bytes of n. -/
def pbl (n k t : Nat) : List Int := (List.range t).map fun j => byteOf n (k - 1 - j)

theorem pbl_succ (n k t : Nat) : pbl n k (t + 1) = pbl n k t ++ [byteOf n (k - 1 - t)] := by simp [pbl, List.range_succ]
theorem pbl_len (n k t : Nat) : (pbl n k t).length = t := by simp [pbl]
theorem byteOf_range (n i : Nat) : 0 ≤ byteOf n i ∧ byteOf n i ≤ 255 := by
  unfold byteOf
  generalize (n : Int) / 2 ^ (8 * i) = q
  omega
theorem byteOf_zero (i : Nat) : byteOf 0 i = 0 := by simp [byteOf]
theorem pbl_range (n k t : Nat) : ∀ x ∈ pbl n k t, 0 ≤ x ∧ x ≤ 255 := by
  intro x hx
  simp only [pbl, List.mem_map] at hx
  obtain ⟨j, _, rfl⟩ := hx
  exact byteOf_range _ _

/-- What PutBig answers. -/
def pb (zs : List Int) (n k : Int) : List Int := zs ++ (if 1 ≤ k ∧ k ≤ 8 then pbl n.toNat k.toNat k.toNat else [])

theorem pb_len (zs : List Int) (n k : Int) : (pb zs n k).length ≤ zs.length + 8 := by
  unfold pb
  split
  · rw [List.length_append, pbl_len]; omega
  · simp

end Go.Proofs.YtlkgopoicpnacaaGreatDoor

namespace Go.Proofs.YtlkgopoicpnacaaGreatDoor
open Go.RowKit
set_option linter.unusedVariables false

theorem Tryz.info5 : (Tryz.prog.info? 5).map (fun i => (i.zero, i.size, i.bytes)) = some (some (.int .u8 0), 1, 1) := by kernel_rfl
theorem ret_int {k : IntKind} {a b : Int} (h : a = b) : Ending.returned (.int k a) = .returned (.int k b) := by rw [h]

/-- A slice value that owns its row: the bytes zs, in a row of the call's own from base on. -/
def Owns (w : World) (base : Nat) (a : Option Addr) (n cap : Nat) (zs : List Int) : Prop :=
  w.ownsRow base 5 1 (.slice a n cap) n (zs.map (Value.int .u8)) ∧ ∀ x ∈ zs, 0 ≤ x ∧ x ≤ 255

theorem Owns.seg {w : World} {base n cap : Nat} {a : Option Addr} {zs : List Int} (h : Owns w base a n cap zs) : Seg w a n zs := by
  obtain ⟨h1, h2⟩ := h
  rcases h1.2 with ⟨he, rfl⟩ | ⟨g, cap', cur, he, _⟩
  · have : zs = [] := by have := h1.1; simpa using this
    subst this
    exact ⟨rfl, by simp, .inl rfl⟩
  · simp only [Value.slice.injEq] at he
    obtain ⟨rfl, _, rfl⟩ := he
    exact Seg.ofOwn h1 h2

/-- Only the row of the slice value a may have turned. -/
def Only (w w' : World) (a : Option Addr) : Prop := w.grownBy w' (a.map (·.block))

theorem Owns.only {w w' : World} {base n cap : Nat} {a b : Option Addr} {zs : List Int} (h : Owns w base a n cap zs) (ho : Only w w' b) (hne : a = none ∨ a.map (·.block) ≠ b.map (·.block)) : Owns w' base a n cap zs := by
  refine ⟨h.1.kept ho ?_, h.2⟩
  rcases hne with rfl | hne
  · exact .inl rfl
  · cases a with
    | none => exact .inl rfl
    | some p => exact .inr hne

theorem Owns.below {w w' : World} {base n cap : Nat} {a : Option Addr} {zs : List Int} (h : Owns w base a n cap zs) (hb : Below w.heap.size w w') : Owns w' base a n cap zs := ⟨own_below h.1 hb, h.2⟩

theorem Owns.lt {w : World} {base n cap : Nat} {a : Option Addr} {zs : List Int} (h : Owns w base a n cap zs) : ∀ k, a.map (·.block) = some k → base ≤ k ∧ k < w.heap.size := by
  intro k hk
  cases a with
  | none => simp at hk
  | some p => exact h.1.lt k (by simpa [Value.ownBlock] using hk)

theorem Only.drewN {w w' : World} {a : Option Addr} (h : Only w w' a) (n : Nat) : Only w (w'.drewN n) a := ⟨h.os, h.tape, h.output, h.size, h.block⟩

theorem Only.below {w0 w w' : World} {B : Nat} {a : Option Addr} (h : Only w w' a) (h0 : Below B w0 w) (hB : B ≤ w.heap.size) (ha : ∀ k, a.map (·.block) = some k → B ≤ k) : Below B w0 w' := h0.grown h hB ha

/-- A world in which nothing but draws has come. -/
def Still (w w' : World) : Prop := ∃ n, w' = w.drewN n

theorem Still.seg {w w' : World} (h : Still w w') {a : Option Addr} {n : Nat} {zs : List Int} (hs : Seg w a n zs) : Seg w' a n zs := by
  obtain ⟨m, rfl⟩ := h
  exact hs

theorem Still.owns {w w' : World} (h : Still w w') {base n cap : Nat} {a : Option Addr} {zs : List Int} (hs : Owns w base a n cap zs) : Owns w' base a n cap zs := by
  obtain ⟨m, rfl⟩ := h
  exact hs

theorem Still.below {w0 w w' : World} (h : Still w w') {B : Nat} (hs : Below B w0 w) : Below B w0 w' := by
  obtain ⟨m, rfl⟩ := h
  exact below_drewN hs m

theorem Still.size {w w' : World} (h : Still w w') : w'.heap.size = w.heap.size := by
  obtain ⟨m, rfl⟩ := h
  rfl

theorem hidden {p : Prop} (h : p) : Hid p := h

theorem ret_bool {a b : Bool} (h : a = b) : Ending.returned (.bool a) = .returned (.bool b) := by rw [h]

theorem cells_ints {w : World} {b off len : Nat} {zs : List Int} (hs : Seg w (some ⟨b, off, none⟩) len zs) : ∀ j u, (zs.map (Value.int .u8))[j]? = some u → w.cell? ((⟨b, off, none⟩ : Addr).add j) = some u := by
  intro j u hu
  rw [List.getElem?_map] at hu
  have hj : j < zs.length := by
    by_cases h : j < zs.length
    · exact h
    · rw [List.getElem?_eq_none (by omega)] at hu; simp at hu
  rw [List.getElem?_eq_getElem hj] at hu
  simp only [Option.map_some, Option.some.injEq] at hu
  rcases hs.2.2 with h | ⟨b', off', he, _, hc⟩
  · have := hs.1; omega
  · simp only [Option.some.injEq, Addr.mk.injEq, and_true] at he
    obtain ⟨rfl, rfl⟩ := he
    have := hc j (by have := hs.1; omega)
    rw [List.getD_eq_getElem?_getD, List.getElem?_eq_getElem hj, Option.getD_some] at this
    by_cases h0 : j = 0
    · subst h0; simpa [Addr.add, hu] using this
    · simpa [Addr.add, h0, hu] using this

theorem ints_one (zs : List Int) : ∀ u ∈ zs.map (Value.int .u8), u.oneCell' = true := by
  intro u hu
  simp only [List.mem_map] at hu
  obtain ⟨x, _, rfl⟩ := hu
  rfl

theorem one_new (w : World) (x : Int) : ∀ j u, [Value.int .u8 x][j]? = some u → (w.alloc (.cells #[.int .u8 x] 5)).cell? ((⟨w.heap.size, 0, none⟩ : Addr).add j) = some u := by
  intro j u hj
  match j, hj with
  | 0, hj => simp at hj; subst hj; simp [Addr.add]

theorem shape_of_owns {w : World} {base n : Nat} {v : Value} {xs : List Value} (h : w.ownsRow base 5 1 v n xs) : ∃ a cap, v = .slice a n cap := by
  rcases h.2 with ⟨rfl, rfl⟩ | ⟨g, cap, cur, rfl, _⟩
  · exact ⟨_, _, rfl⟩
  · exact ⟨_, _, rfl⟩

end Go.Proofs.YtlkgopoicpnacaaGreatDoor
