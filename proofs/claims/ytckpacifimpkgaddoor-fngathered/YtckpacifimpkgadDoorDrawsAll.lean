/- What the test of a range answers. -/
import Derived.Test.YtckpacifimpkgadDoorOwn
import Derived.Deep.RegionLaw
import Derived.Laws.MakeOwn
import Derived.Laws.OwnMore
import Derived.Laws.IdiomStrings
import Derived.Below
import Derived.WalkKit
namespace Go.Proofs.YtckpacifimpkgadDoor
open Go.RowKit
set_option linter.unusedVariables false

/-- The cursor in block c: the code's bytes lie below block B, which is not above c. -/
def Cur (w : World) (B c : Nat) (a : Option Addr) (len cap : Nat) (zs : List Int) : Prop :=
  B ≤ c ∧ (∀ x, a = some x → len ≠ 0 → x.block < B) ∧ Seg w a len zs ∧
    ∃ (i : Nat) (h : Int), i ≤ len ∧ w.heap[c]? = some (.cells #[.slice a len cap, .int .i64 i, .int .i64 h] 69 (0, 0))

theorem and_mask (x : Int) (m : Nat) (hm : m < 9223372036854775808) : 0 ≤ bits .and .i64 x (m : Int) ∧ bits .and .i64 x (m : Int) ≤ (m : Int) := by
  have e : bits .and .i64 x (m : Int) = (((BitVec.ofInt 64 x).toNat &&& m : Nat) : Int) := by
    show IntKind.i64.wrap ((BitVec.ofInt 64 x &&& BitVec.ofInt 64 (m : Int)).toNat : Int) = _
    rw [BitVec.toNat_and, ofInt64 m (by omega)]
    have h1 : (BitVec.ofInt 64 x).toNat &&& m ≤ m := Nat.and_le_right
    exact wrap_i64_small _ (by omega)
  have h1 : (BitVec.ofInt 64 x).toNat &&& m ≤ m := Nat.and_le_right
  rw [e]
  omega

theorem cur_new {w : World} {a : Option Addr} {len cap : Nat} {zs : List Int} (hs : Seg w a len zs) (h : Int) :
    Cur (w.alloc (.cells #[.slice a len cap, .int .i64 0, .int .i64 h] 69)) w.heap.size w.heap.size a len cap zs := by
  refine ⟨Nat.le_refl _, ?_, hs.below ((Below.refl _ _).alloc (Nat.le_refl _) _), 0, h, Nat.zero_le _, heap_alloc_new w _⟩
  rintro x rfl hl
  rcases hs.2.2 with h0 | ⟨b, off, e, hb, _⟩
  · exact absurd h0 hl
  · obtain rfl := Option.some.inj e
    exact hb

set_option maxRecDepth 10000 in
set_option maxHeartbeats 400000 in
theorem l1New_any (a : Option Addr) (len cap : Nat) (zs : List Int) (w : World) (hs : Seg w a len zs) (hl : len ≤ 1099511627776) :
    Calls Tryd.prog 15 #[.slice a len cap] w fun e w' => e = .returned (.pointer (some ⟨w.heap.size, 0, none⟩)) ∧ Cur w' w.heap.size w.heap.size a len cap zs ∧ Below w.heap.size w w' := by
  have HS : Hid (Seg w a len zs) := hs
  clear hs
  go_enter Tryd.func15, Tryd.ntmps15
  go_wp2
  go_loop [3, 4] (fun n i => ∃ (k : Nat) (m : Int), k ≤ len ∧ i = .int .i64 k ∧ n = .int .i64 m) (fun _ i => len - (intOf i).toNat)
  case atStart => exact ⟨0, _, Nat.zero_le _, rfl, rfl⟩
  case round =>
    obtain ⟨k, m, hk, rfl, rfl⟩ := hrel
    by_cases hlt : k < len ∧ k < 4000
    · obtain ⟨hlt, h4⟩ := hlt
      obtain ⟨b, off, rfl, hb, hc⟩ : ∃ b off, a = some ⟨b, off, none⟩ ∧ b < w.heap.size ∧ ∀ i, i < len → w.cell? ⟨b, off + i, none⟩ = some (.int .u8 (zs.getD i 0)) := by
        rcases HS.out.2.2 with h | h
        · omega
        · exact h
      have hcell : w.cell? ⟨b, off + k, none⟩ = some (.int .u8 (zs.getD k 0)) := hc k hlt
      have h4i : (k : Int) < 4000 := by omega
      clear hc h4
      go_wp2
      go_round
      case rel => exact ⟨k + 1, _, by omega, by go_num, rfl⟩
      case measure => simp [intOf]; omega
    · by_cases hlt2 : k < len
      · have h4i : ¬ (k : Int) < 4000 := by omega
        clear hlt
        go_wp2
        go_ret
        exact ⟨rfl, cur_new HS.out _, (Below.refl _ _).alloc (Nat.le_refl _) _⟩
      · clear hlt
        go_wp2
        go_ret
        exact ⟨rfl, cur_new HS.out _, (Below.refl _ _).alloc (Nat.le_refl _) _⟩

theorem cells_of_three {w : World} {c : Nat} {x y z : Value} {t : TypeId} (h : w.heap[c]? = some (.cells #[x, y, z] t (0, 0))) :
    w.cell? ⟨c, 0, none⟩ = some x ∧ w.cell? ⟨c, 1, none⟩ = some y ∧ w.cell? ⟨c, 2, none⟩ = some z ∧ w.frozen? ⟨c, 1, none⟩ = false ∧ w.frozen? ⟨c, 2, none⟩ = false := by
  refine ⟨?_, ?_, ?_, frozen_of_row w c 1 _ t h, frozen_of_row w c 2 _ t h⟩
  · rw [cell_of_row w c 0 _ t (0, 0) h]; rfl
  · rw [cell_of_row w c 1 _ t (0, 0) h]; rfl
  · rw [cell_of_row w c 2 _ t (0, 0) h]; rfl

theorem gset (w : World) (c o : Nat) (v : Value) : w.grownBy (w.setCell ⟨c, o, none⟩ v) (some c) :=
  ⟨rfl, rfl, rfl, by simp [World.setCell], fun k _ hk => Below.heap_setCell _ _ _ _ (fun e => hk (by simp [e]))⟩
theorem gdrew (w : World) (n : Nat) (row : Option Nat) : w.grownBy (w.drewN n) row := ⟨rfl, rfl, rfl, Nat.le_refl _, fun _ _ _ => rfl⟩
theorem gtrans {w w1 w2 : World} {row : Option Nat} (h : w.grownBy w1 row) (k : w1.grownBy w2 row) : w.grownBy w2 row :=
  ⟨k.os.trans h.os, k.tape.trans h.tape, k.output.trans h.output, Nat.le_trans h.size k.size, fun j hj hne => (k.block j (Nat.lt_of_lt_of_le hj h.size) hne).trans (h.block j hj hne)⟩
theorem gbelow {w w' : World} (h : Below w.heap.size w w') (row : Option Nat) : w.grownBy w' row := ⟨h.os, h.tape, h.output, h.size, fun k hk _ => h.block k hk⟩

theorem seg_grown {w w' : World} {B c : Nat} {a : Option Addr} {len : Nat} {zs : List Int} (hB : B ≤ c) (hlow : ∀ x, a = some x → len ≠ 0 → x.block < B) (hs : Seg w a len zs) (hg : w.grownBy w' (some c)) : Seg w' a len zs := by
  refine ⟨hs.1, hs.2.1, ?_⟩
  by_cases h0 : len = 0
  · exact .inl h0
  · rcases hs.2.2 with h | ⟨b, off, rfl, hb, hc⟩
    · exact .inl h
    · have hbB : b < B := hlow _ rfl h0
      refine .inr ⟨b, off, rfl, Nat.lt_of_lt_of_le hb hg.size, fun i hi => ?_⟩
      exact (World.cell?_of_block (w := w) (a := ⟨b, off + i, none⟩) (hg.block b hb (fun e => by have := Option.some.inj e; omega))).trans (hc i hi)

theorem Cur.again {w w' : World} {B c : Nat} {a : Option Addr} {len cap : Nat} {zs : List Int} (hB : B ≤ c) (hlow : ∀ x, a = some x → len ≠ 0 → x.block < B) (hs : Seg w a len zs) (hg : w.grownBy w' (some c))
    (i : Nat) (h : Int) (hi : i ≤ len) (hh : w'.heap[c]? = some (.cells #[.slice a len cap, .int .i64 i, .int .i64 h] 69 (0, 0))) : Cur w' B c a len cap zs :=
  ⟨hB, hlow, seg_grown hB hlow hs hg, i, h, hi, hh⟩

/-- A world in which other blocks than the cursor's have turned, and new ones come. -/
theorem Cur.kept {w w' : World} {B c : Nat} {a : Option Addr} {len cap : Nat} {zs : List Int} {row : Option Nat} (h : Cur w B c a len cap zs) (hg : w.grownBy w' row) (hr : ∀ k, row = some k → B ≤ k ∧ k ≠ c) : Cur w' B c a len cap zs := by
  obtain ⟨hB, hlow, hs, i, hh, hi, hc⟩ := h
  have hcl : c < w.heap.size := by
    by_cases hk : c < w.heap.size
    · exact hk
    · rw [Array.getElem?_eq_none (by omega)] at hc; cases hc
  refine ⟨hB, hlow, ?_, i, hh, hi, (hg.block c hcl (fun e => (hr c e.symm).2 rfl)).trans hc⟩
  refine ⟨hs.1, hs.2.1, ?_⟩
  by_cases h0 : len = 0
  · exact .inl h0
  · rcases hs.2.2 with h | ⟨b, off, rfl, hb, hcc⟩
    · exact .inl h
    · have hbB : b < B := hlow _ rfl h0
      refine .inr ⟨b, off, rfl, Nat.lt_of_lt_of_le hb hg.size, fun j hj => ?_⟩
      exact (World.cell?_of_block (w := w) (a := ⟨b, off + j, none⟩) (hg.block b hb (fun e => by have := (hr b e.symm).1; omega))).trans (hcc j hj)

theorem Cur.lt {w : World} {B c : Nat} {a : Option Addr} {len cap : Nat} {zs : List Int} (h : Cur w B c a len cap zs) : c < w.heap.size := by
  obtain ⟨_, _, _, i, hh, _, hc⟩ := h
  by_cases hk : c < w.heap.size
  · exact hk
  · rw [Array.getElem?_eq_none (by omega)] at hc; cases hc

set_option maxRecDepth 10000 in
set_option maxHeartbeats 400000 in
theorem l1Byte_any (B c : Nat) (a : Option Addr) (len cap : Nat) (zs : List Int) (w : World) (hcur : Cur w B c a len cap zs) (hl : len ≤ 1099511627776) :
    Calls Tryd.prog 38 #[.pointer (some ⟨c, 0, none⟩)] w fun e w' => ∃ x : Int, 0 ≤ x ∧ x ≤ 255 ∧ e = .returned (.int .i64 x) ∧ Cur w' B c a len cap zs ∧ w.grownBy w' (some c) := by
  obtain ⟨hB, hlow, hs, i, h, hi, hh⟩ := hcur
  obtain ⟨c0, c1, c2, f1, f2⟩ := cells_of_three hh
  have HH : Hid _ := hh
  have HS : Hid (Seg w a len zs) := hs
  have HL : Hid (∀ x, a = some x → len ≠ 0 → x.block < B) := hlow
  clear hh hs hlow
  by_cases hlt : i < len
  · obtain ⟨b, off, rfl, hb, hc⟩ : ∃ b off, a = some ⟨b, off, none⟩ ∧ b < w.heap.size ∧ ∀ i, i < len → w.cell? ⟨b, off + i, none⟩ = some (.int .u8 (zs.getD i 0)) := by
      rcases HS.out.2.2 with h | h
      · omega
      · exact h
    have hbB := HL.out _ rfl (by omega)
    have hbc : ¬ b = c := by simp at hbB; omega
    have hcell : w.cell? ⟨b, off + i, none⟩ = some (.int .u8 (zs.getD i 0)) := hc i hlt
    clear hc hbB
    go_enter Tryd.func38, Tryd.ntmps38
    go_wp2
    generalize wrap64 (wrap64 (h * 6364136223846793005) + 1442695040888963407) = h'
    go_quiet (fail)
    go_wp2
    obtain ⟨hx0, hx1⟩ := and_mask (bits BinOp.xor .i64 (h' / 8589934592) (h' / 140737488355328)) 255 (by omega)
    generalize bits BinOp.and .i64 (bits BinOp.xor .i64 (h' / 8589934592) (h' / 140737488355328)) 255 = x at *
    go_quiet (fail)
    go_wp2
    go_quiet (fail)
    go_wp2
    go_ret
    obtain ⟨hy0, hy1⟩ := and_mask (wrap64 (x + wrap64 (zs.getD i 0))) 255 (by omega)
    refine ⟨_, hy0, hy1, by simp, ?_, ?_⟩
    · refine Cur.again hB HL.out HS.out (gtrans (gtrans (gset w c 2 _) (gdrew _ _ _)) (gset _ c 1 _)) (i + 1) h' (by omega) ?_
      have h1 := heap_setCell_same w c 2 _ 69 (.int .i64 h') HH.out
      exact heap_setCell_same ((w.setCell ⟨c, 2, none⟩ (.int .i64 h')).drewN _) c 1 _ 69 _ h1
    · exact gtrans (gtrans (gset w c 2 _) (gdrew _ _ _)) (gset _ c 1 _)
  · go_enter Tryd.func38, Tryd.ntmps38
    go_wp2
    generalize wrap64 (wrap64 (h * 6364136223846793005) + 1442695040888963407) = h'
    go_quiet (fail)
    go_wp2
    obtain ⟨hx0, hx1⟩ := and_mask (bits BinOp.xor .i64 (h' / 8589934592) (h' / 140737488355328)) 255 (by omega)
    generalize bits BinOp.and .i64 (bits BinOp.xor .i64 (h' / 8589934592) (h' / 140737488355328)) 255 = x at *
    go_quiet (fail)
    go_wp2
    go_ret
    refine ⟨x, hx0, hx1, rfl, ?_, ?_⟩
    · exact Cur.again hB HL.out HS.out (gtrans (gtrans (gset w c 2 _) (gdrew _ _ _)) (gdrew _ _ _)) i h' hi (heap_setCell_same w c 2 _ 69 (.int .i64 h') HH.out)
    · exact gtrans (gtrans (gset w c 2 _) (gdrew _ _ _)) (gdrew _ _ _)

end Go.Proofs.YtckpacifimpkgadDoor

namespace Go.Proofs.YtckpacifimpkgadDoor
open Go.RowKit
set_option linter.unusedVariables false

set_option maxRecDepth 10000 in
set_option maxHeartbeats 400000 in
theorem l1Below_any (B c : Nat) (a : Option Addr) (len cap : Nat) (zs : List Int) (n : Int) (w : World) (hcur : Cur w B c a len cap zs) (hl : len ≤ 1099511627776) (hn1 : 1 ≤ n) (hn2 : n ≤ 1000000) :
    Calls Tryd.prog 18 #[.pointer (some ⟨c, 0, none⟩), .int .i64 n] w fun e w' => ∃ x : Int, e = .returned (.int .i64 x) ∧ 0 ≤ x ∧ x < n ∧ Cur w' B c a len cap zs ∧ w.grownBy w' (some c) := by
  have HC : Hid _ := hcur
  clear hcur
  have hne : (n == 0) = false := by rw [beq_eq_false_iff_ne]; omega
  by_cases h256 : n ≤ 256
  · go_enter Tryd.func18, Tryd.ntmps18
    go_wp2_with fail
    refine (l1Byte_any B c a len cap zs _ HC.out hl).mono ?_
    rintro e w1 ⟨x, hx0, hx1, rfl, hc1, hg1⟩
    have HC1 : Hid _ := hc1
    have HG1 : Hid _ := hg1
    clear hc1 hg1
    go_wp2_with fail
    go_ret
    refine ⟨_, rfl, ?_, ?_, HC1.out, HG1.out⟩
    · first | exact Int.emod_nonneg _ (by omega) | exact Int.tmod_nonneg _ (by omega)
    · first | exact Int.emod_lt_of_pos _ (by omega) | exact Int.tmod_lt_of_pos _ (by omega)
  · go_enter Tryd.func18, Tryd.ntmps18
    go_wp2_with fail
    refine (l1Byte_any B c a len cap zs _ HC.out hl).mono ?_
    rintro e w1 ⟨x, hx0, hx1, rfl, hc1, hg1⟩
    have HC1 : Hid _ := hc1
    have HG1 : Hid _ := hg1
    clear hc1 hg1
    go_wp2_with fail
    refine (l1Byte_any B c a len cap zs _ HC1.out hl).mono ?_
    rintro e w2 ⟨y, hy0, hy1, rfl, hc2, hg2⟩
    have HC2 : Hid _ := hc2
    have HG2 : Hid _ := gtrans HG1.out hg2
    clear hc2 hg2
    go_wp2_with fail
    refine (l1Byte_any B c a len cap zs _ HC2.out hl).mono ?_
    rintro e w3 ⟨z, hz0, hz1, rfl, hc3, hg3⟩
    have HC3 : Hid _ := hc3
    have HG3 : Hid _ := gtrans HG2.out hg3
    clear hc3 hg3
    go_wp2_with fail
    go_ret
    refine ⟨_, rfl, ?_, ?_, HC3.out, HG3.out⟩
    · first | exact Int.emod_nonneg _ (by omega) | exact Int.tmod_nonneg _ (by omega)
    · first | exact Int.emod_lt_of_pos _ (by omega) | exact Int.tmod_lt_of_pos _ (by omega)

theorem cell_of_ints {w : World} {g : Nat} {L : List Int} (h : w.heap[g]? = some (.cells (L.map (Value.int .i64)).toArray 3 (0, 0))) (k : Nat) (hk : k < L.length) : w.cell? ⟨g, k, none⟩ = some (.int .i64 (L.getD k 0)) := by
  rw [cell_of_row w g k _ 3 (0, 0) h]
  simp [List.getD_eq_getElem?_getD, hk]

set_option maxRecDepth 10000 in
set_option maxHeartbeats 400000 in
theorem l1Int_any (B c : Nat) (a : Option Addr) (len cap : Nat) (zs : List Int) (g n cp : Nat) (L : List Int) (w : World) (hcur : Cur w B c a len cap zs) (hl : len ≤ 1099511627776)
    (hL : w.heap[g]? = some (.cells (L.map (Value.int .i64)).toArray 3 (0, 0))) (hgc : g ≠ c) (hn : L.length = n) (h1 : 1 ≤ n) (h2 : n ≤ 256) :
    Calls Tryd.prog 17 #[.pointer (some ⟨c, 0, none⟩), .slice (some ⟨g, 0, none⟩) n cp] w fun e w' => ∃ v : Int, e = .returned (.int .i64 v) ∧ v ∈ L ∧ Cur w' B c a len cap zs ∧ w.grownBy w' (some c) := by
  have HC : Hid _ := hcur
  have HL : Hid _ := hL
  have HN : Hid (L.length = n) := hn
  clear hcur hL hn
  have hi1 : (1 : Int) ≤ (n : Int) := by omega
  have hi2 : (n : Int) ≤ 1000000 := by omega
  have hglt : g < w.heap.size := by
    by_cases hk : g < w.heap.size
    · exact hk
    · have := HL.out; rw [Array.getElem?_eq_none (by omega)] at this; cases this
  go_enter Tryd.func17, Tryd.ntmps17
  go_wp2_with fail
  refine (l1Below_any B c a len cap zs _ _ HC.out hl hi1 hi2).mono ?_
  rintro e w1 ⟨x, rfl, hx0, hx1, hc1, hg1⟩
  obtain ⟨k, rfl⟩ := Int.eq_ofNat_of_zero_le hx0
  have HC1 : Hid _ := hc1
  have HG1 : Hid _ := hg1
  have hcell : w1.cell? ⟨g, k, none⟩ = some (.int .i64 (L.getD k 0)) := by
    refine cell_of_ints ?_ k (by have := HN.out; omega)
    rw [hg1.block g hglt (fun e => hgc (Option.some.inj e))]
    exact HL.out
  clear hc1 hg1
  go_wp2_with fail
  go_ret
  refine ⟨_, rfl, ?_, HC1.out, HG1.out⟩
  have hk : k < L.length := by have := HN.out; omega
  rw [List.getElem?_eq_getElem hk]
  exact List.getElem_mem hk

theorem gown {w w1 w2 : World} {c row : Option Nat} (h : w.grownBy w1 c) (k : w1.grownBy w2 row) (hr : ∀ j, row = some j → w.heap.size ≤ j) : w.grownBy w2 c :=
  ⟨k.os.trans h.os, k.tape.trans h.tape, k.output.trans h.output, Nat.le_trans h.size k.size, fun j hj hne => (k.block j (Nat.lt_of_lt_of_le hj h.size) (fun e => by have := hr j e.symm; omega)).trans (h.block j hj hne)⟩

theorem own_some5 {w : World} {base n : Nat} {v : Value} {xs : List Value} (h : w.ownsRow base 5 1 v n xs) (hv : ¬ v = .slice none 0 0) : ∃ g cp, v = .slice (some ⟨g, 0, none⟩) n cp ∧ base ≤ g := by
  rcases h.2 with ⟨rfl, _⟩ | ⟨g, cap, cur, rfl, hb, _⟩
  · exact absurd rfl hv
  · exact ⟨g, cap, rfl, hb⟩

theorem gnew {w W : World} {c : Option Nat} (h : w.grownBy W c) (o : Obj) : w.grownBy (W.alloc o) c := gown h (World.grownBy_alloc W o none) (by simp)
theorem gput {w W : World} {c : Option Nat} (h : w.grownBy W c) {b k : Nat} (hb : w.heap.size ≤ b) (v : Value) : w.grownBy (W.setCell ⟨b, k, none⟩ v) c := gown h (gset W b k v) (fun j e => by injection e with e; omega)
theorem Cur.put {w : World} {B c : Nat} {a : Option Addr} {len cap : Nat} {zs : List Int} (h : Cur w B c a len cap zs) {b k : Nat} (hb : c < b) (v : Value) : Cur (w.setCell ⟨b, k, none⟩ v) B c a len cap zs := h.kept (gset w b k v) (fun j e => by injection e with e; have := h.1; omega)
theorem Cur.new {w : World} {B c : Nat} {a : Option Addr} {len cap : Nat} {zs : List Int} (h : Cur w B c a len cap zs) (o : Obj) : Cur (w.alloc o) B c a len cap zs := h.kept (World.grownBy_alloc w o none) (by simp)


end Go.Proofs.YtckpacifimpkgadDoor

namespace Go.Proofs.YtckpacifimpkgadDoor
open Go.RowKit
set_option linter.unusedVariables false

set_option maxRecDepth 10000 in
set_option maxHeartbeats 400000 in
theorem l1Once_any (B c : Nat) (a : Option Addr) (len cap : Nat) (zs : List Int) (n : Int) (w : World) (hcur : Cur w B c a len cap zs) (hl : len ≤ 1099511627776) (hn1 : 1 ≤ n) (hn2 : n ≤ 1000000) :
    Calls Tryd.prog 31 #[.pointer (some ⟨c, 0, none⟩), .int .i64 n] w fun e w' => ∃ b : Bool, e = .returned (.bool b) ∧ Cur w' B c a len cap zs ∧ w.grownBy w' (some c) := by
  have HC : Hid _ := hcur
  clear hcur
  go_enter Tryd.func31, Tryd.ntmps31
  go_wp2_with fail
  refine (l1Below_any B c a len cap zs _ _ HC.out hl hn1 hn2).mono ?_
  rintro e w1 ⟨x, rfl, hx0, hx1, hc1, hg1⟩
  have HC1 : Hid _ := hc1
  have HG1 : Hid _ := hg1
  clear hc1 hg1
  go_wp2_with fail
  go_ret
  exact ⟨_, rfl, HC1.out, HG1.out⟩

end Go.Proofs.YtckpacifimpkgadDoor

namespace Go.Proofs.YtckpacifimpkgadDoor
open Go.RowKit
set_option linter.unusedVariables false

set_option maxRecDepth 10000 in
set_option maxHeartbeats 400000 in
theorem l1Bytes_any (B c : Nat) (a : Option Addr) (len cap : Nat) (zs : List Int) (n : Nat) (w : World) (hcur : Cur w B c a len cap zs) (hl : len ≤ 1099511627776) (hn2 : n ≤ 1000000) :
    Calls Tryd.prog 16 #[.pointer (some ⟨c, 0, none⟩), .int .i64 n] w fun e w' => ∃ g cp ys, e = .returned (.slice (some ⟨g, 0, none⟩) n cp) ∧ w.heap.size ≤ g ∧ Owns w' w.heap.size (some ⟨g, 0, none⟩) n cp ys ∧ Cur w' B c a len cap zs ∧ w.grownBy w' (some c) := by
  obtain ⟨i0, hi, hz0, hz1, hz2⟩ := info_parts Tryd.info5
  have hcl : c < w.heap.size := hcur.lt
  have HC : Hid (Cur (w.alloc (.cells #[] 5)) B c a len cap zs) := hcur.kept (World.grownBy_alloc w _ none) (by simp)
  have HB : Hid (B ≤ c) := hcur.1
  have HO : Hid ((w.alloc (.cells #[] 5)).ownsRow w.heap.size 5 1 (.slice (some ⟨w.heap.size, 0, none⟩) 0 0) 0 (([] : List Int).map (Value.int .u8))) := World.ownsRow_lit w #[] 0 (Nat.le_refl _) (Nat.zero_le _) rfl
  clear hcur
  go_enter Tryd.func16, Tryd.ntmps16
  go_wp2_with fail
  go_loopw [5, 6] (fun v i wr => ∃ (k g cp : Nat) (ys : List Int), k ≤ n ∧ i = .int .i64 k ∧ v = .slice (some ⟨g, 0, none⟩) k cp ∧ w.heap.size ≤ g ∧ Hid (wr.ownsRow w.heap.size 5 1 (.slice (some ⟨g, 0, none⟩) k cp) k (ys.map (Value.int .u8)) ∧ (∀ x ∈ ys, 0 ≤ x ∧ x ≤ 255)) ∧ Hid (Cur wr B c a len cap zs) ∧ Hid (w.grownBy wr (some c))) (fun _ i _ => n - (intOf i).toNat)
  case atStart => exact ⟨0, w.heap.size, 0, [], Nat.zero_le _, rfl, rfl, Nat.le_refl _, ⟨HO.out, by simp⟩, HC, World.grownBy_alloc w _ _⟩
  case round =>
    clear HO HC
    obtain ⟨k, g, cp, ys, hk, rfl, rfl, hgw, HO, HC, HG⟩ := hrel
    by_cases hlt : k < n
    · go_wp2_with fail
      refine (l1Byte_any B c a len cap zs _ HC.out hl).mono ?_
      rintro e w1 ⟨x, hx0, hx1, rfl, hc1, hg1⟩
      have hgc : ¬ g = c := by omega
      have HO1 : Hid (w1.ownsRow w.heap.size 5 1 (.slice (some ⟨g, 0, none⟩) k cp) k (ys.map (Value.int .u8))) := HO.out.1.kept hg1 (.inr (fun e => hgc (by simpa [Value.ownBlock] using e)))
      have HY : Hid (∀ x ∈ ys, 0 ≤ x ∧ x ≤ 255) := HO.out.2
      have HG1 : Hid (w.grownBy w1 (some c)) := gtrans HG.out hg1
      have HC1 : Hid (Cur w1 B c a len cap zs) := hc1
      have HN : Hid (∀ j u, [Value.int .u8 x][j]? = some u → (w1.alloc (.cells #[.int .u8 x] 5)).cell? ((⟨w1.heap.size, 0, none⟩ : Addr).add j) = some u) := one_new w1 x
      have hsz := HG1.out.size
      clear hc1 hg1 HO HC HG
      go_wp2_with (at_builtin; refine wpList_append_own _ rfl _ _ 22 rfl w.heap.size 5 i0 (.int .u8 0) 1 1 Tryd.underlying22 hi hz0 hz1 hz2 rfl (by decide) (.slice (some ⟨g, 0, none⟩) k cp) k _ rfl (HO1.out.alloc _) ⟨w1.heap.size, 0, none⟩ 1 1 [.int .u8 x] rfl rfl HN.out (ints_one [x]) (by unfold maxLen; omega) (by omega) (by simp; omega) ?_; intro v2 w2 hown2 hgrow2 hnil; refine Hid.out ?_)
      refine hidden ?_
      obtain ⟨g2, cp2, rfl, hg2⟩ := own_some5 hown2 (fun e => by have := (hnil.1 e).1; simp at this)
      have HO2 : Hid (w2.ownsRow w.heap.size 5 1 (.slice (some ⟨g2, 0, none⟩) (k + 1) cp2) (k + 1) ((ys ++ [x]).map (Value.int .u8)) ∧ (∀ z ∈ ys ++ [x], 0 ≤ z ∧ z ≤ 255)) := by
        refine ⟨by rw [List.map_append]; exact hown2, ?_⟩
        intro z hz
        rcases List.mem_append.1 hz with hz | hz
        · exact HY.out z hz
        · obtain rfl : z = x := by simpa using hz
          exact ⟨hx0, hx1⟩
      have hrow : ∀ j, (Value.slice (some ⟨g, 0, none⟩) k cp).ownBlock = some j → w.heap.size ≤ j ∧ j ≠ c := by
        intro j hj
        have : g = j := by simpa [Value.ownBlock] using hj
        omega
      have HG2 : Hid (w.grownBy w2 (some c)) := gown (gown HG1.out (World.grownBy_alloc w1 _ none) (by simp)) hgrow2 (fun j hj => (hrow j hj).1)
      have HC2 : Hid (Cur w2 B c a len cap zs) := (HC1.out.kept (World.grownBy_alloc w1 _ none) (by simp)).kept hgrow2 (fun j hj => ⟨by have := (hrow j hj).1; have := HB.out; omega, (hrow j hj).2⟩)
      clear hown2 hgrow2 hnil HO1 HC1 HG1 HN hrow
      go_wp2_with fail
      go_roundw
      case rel => exact ⟨k + 1, g2, cp2, ys ++ [x], by omega, by go_num, rfl, hg2, HO2, HC2, HG2⟩
      case measure => simp [intOf]; omega
    · have hkn : k = n := by omega
      subst hkn
      go_wp2_with fail
      go_ret
      exact ⟨g, cp, ys, rfl, hgw, ⟨HO.out.1, HO.out.2⟩, HC.out, HG.out⟩

end Go.Proofs.YtckpacifimpkgadDoor

namespace Go.Proofs.YtckpacifimpkgadDoor
open Go.RowKit
set_option linter.unusedVariables false

set_option maxRecDepth 10000 in
set_option maxHeartbeats 400000 in
theorem l1Some_b (B c : Nat) (a : Option Addr) (len cap : Nat) (zs : List Int) (w : World) (hcur : Cur w B c a len cap zs) (hl : len ≤ 1099511627776) :
    Calls Tryd.prog 32 #[.pointer (some ⟨c, 0, none⟩)] w fun e w' => ∃ g n cp ys, e = .returned (.slice (some ⟨g, 0, none⟩) n cp) ∧ n ≤ 9 ∧ w.heap.size ≤ g ∧ Owns w' w.heap.size (some ⟨g, 0, none⟩) n cp ys ∧ Cur w' B c a len cap zs ∧ w.grownBy w' (some c) := by
  have hcl : c < w.heap.size := hcur.lt
  have HC : Hid (∀ o, Cur (w.alloc o) B c a len cap zs) := fun o => hcur.kept (World.grownBy_alloc w o none) (by simp)
  clear hcur
  go_enter Tryd.func32, Tryd.ntmps32
  go_wp2_with fail
  refine (l1Int_any B c a len cap zs w.heap.size 5 5 [0, 1, 2, 5, 9] _ (HC.out _) hl (heap_alloc_new w _) (by omega) rfl (by omega) (by omega)).mono ?_
  rintro e w1 ⟨v, rfl, hv, hc1, hg1⟩
  have hv0 : 0 ≤ v ∧ v ≤ 9 := by
    simp only [List.mem_cons, List.not_mem_nil, or_false] at hv
    omega
  obtain ⟨n, rfl⟩ := Int.eq_ofNat_of_zero_le hv0.1
  have HC1 : Hid (Cur w1 B c a len cap zs) := hc1
  have HG1 : Hid (w.grownBy w1 (some c)) := gtrans (World.grownBy_alloc w _ (some c)) hg1
  clear hc1 hg1 hv
  go_wp2_with fail
  refine (l1Bytes_any B c a len cap zs n _ HC1.out hl (by omega)).mono ?_
  rintro e w2 ⟨g, cp, ys, rfl, hg, ho, hc2, hg2⟩
  have HC2 : Hid (Cur w2 B c a len cap zs) := hc2
  have HG2 : Hid (w.grownBy w2 (some c)) := gtrans HG1.out hg2
  have hs1 := HG1.out.size
  have HO2 : Hid (Owns w2 w.heap.size (some ⟨g, 0, none⟩) n cp ys) := ⟨⟨ho.1.1, by
    rcases ho.1.2 with ⟨e, _⟩ | ⟨g', cap', cur, e, hb, r⟩
    · simp at e
    · exact .inr ⟨g', cap', cur, e, by omega, r⟩⟩, ho.2⟩
  clear ho hc2 hg2
  go_wp2_with fail
  go_ret
  exact ⟨g, n, cp, ys, rfl, by omega, by omega, HO2.out, HC2.out, HG2.out⟩

end Go.Proofs.YtckpacifimpkgadDoor

namespace Go.Proofs.YtckpacifimpkgadDoor
open Go.RowKit
set_option linter.unusedVariables false

theorem step_call_pair {P : Program} {ops : Array Oper} {o : Oper} {a : Act} {w : World} {K : Act → World → Prop} {Q : Exit → Act → World → Prop} {E : Prop}
    (hg : o.guard = none) (f : FuncId) (x y : Operand) (t t' : TypeId) (ho : o.op = .call { callee := .value (.func f), args := #[x, y], argTypes := #[t, t'] })
    (hent : ∀ args w, (callFunc f args).run P w = .ok (.enter f args) w) (u u' : Value) (hx : a.eval x = u) (hy : a.eval y = u') (R : Ending → World → Prop)
    (hc : Calls P f #[u, u'] w R) (h : ∀ e w', R e w' → ∃ v, e = .returned v ∧ K (a.put o.dst v) w') :
    if Region.wanted o (yielded ops a.tmps) = true then Oper.wp P o a w K Q else E := by
  have hw : Region.wanted o (yielded ops a.tmps) = true := by simp [Region.wanted, hg]
  rw [if_pos hw]
  have hf : a.eval (.func f) = .func (.func f) #[] #[] := rfl
  unfold Oper.wp
  simp [execOp, ho, resolve, invoke, Deferred.ofValue, hent, hf, hx, hy, Oper.upon_enter]
  refine hc.mono ?_
  intro e w' hr
  obtain ⟨v, rfl, hk⟩ := h e w' hr
  exact hk

theorem run_make_zero {P : Program} (w : World) (t e : TypeId) (i : TypeInfo) (h1 : P.underlying t = some (.slice e)) (h2 : P.info? e = some i) (h3 : i.zero = some (.int .u8 0)) (h4 : i.size = 1) (h5 : i.bytes = 1) (n : Nat) (b2 : n ≤ 2199023255552) :
    (Instr.makeSlice t (.int .i64 n) (.int .i64 n)).run P w = .ok (.slice (some ⟨w.heap.size, 0, none⟩) n n) (w.alloc (.cells (List.replicate n (.int .u8 0)).toArray e)) := by
  have hz : (Value.int .u8 0).cells = #[.int .u8 0] := rfl
  have hr := run_make (P := P) w t e i _ h1 h2 h3 .i64 .i64 n n (by omega) (by omega) (by rw [h5]; omega) (by omega)
  simp only [Int.toNat_natCast, h4, Nat.mul_one, hz] at hr
  rw [hr]
  congr 1
  congr 1
  congr 1
  apply Array.toList_inj.1
  rw [toList_madeCells_one]

theorem run_text_zero {P : Program} (w : World) (src dst e : TypeId) (hs : P.underlying src = some (.slice e)) (he : P.underlying e = some (.int .u8)) (hd : P.underlying dst = some .string) (b n cap : Nat) (hc : w.heap[b]? = some (.cells (List.replicate n (.int .u8 0)).toArray e (0, 0))) :
    ∃ s : ByteArray, s.size = n ∧ (convert src dst (.slice (some ⟨b, 0, none⟩) n cap)).run P w = .ok (.string s) w := by
  have hr := run_convert_bytes_back (P := P) w src dst e ⟨b, 0, none⟩ cap (List.replicate n 0) hs he hd (by
    intro j hj
    rw [List.length_replicate] at hj
    have hp : (⟨b, 0, none⟩ : Addr).add j = ⟨b, j, none⟩ := by unfold Addr.add; split <;> simp_all
    rw [hp]
    simp [World.cell?, hc, hj])
  rw [List.length_replicate] at hr
  exact ⟨_, by simp [ByteArray.size], hr⟩

theorem step_make_zero {P : Program} {ops : Array Oper} {o : Oper} {a : Act} {w : World} {K : Act → World → Prop} {Q : Exit → Act → World → Prop} {E : Prop}
    (hg : o.guard = none) (l : Operand) (t e : TypeId) (hop : o.op = Op.makeSlice t l l) (i : TypeInfo) (h1 : P.underlying t = some (.slice e)) (h2 : P.info? e = some i) (h3 : i.zero = some (.int .u8 0)) (h4 : i.size = 1) (h5 : i.bytes = 1)
    (L : Int) (n : Nat) (hl : a.eval l = .int .i64 L) (hL : L = (n : Int)) (b2 : n ≤ 2199023255552)
    (h : ∀ w', w'.heap[w.heap.size]? = some (.cells (List.replicate n (.int .u8 0)).toArray e (0, 0)) → Below w.heap.size w w' → K (a.put o.dst (.slice (some ⟨w.heap.size, 0, none⟩) n n)) w') :
    if Region.wanted o (yielded ops a.tmps) = true then Oper.wp P o a w K Q else E := by
  have hw : Region.wanted o (yielded ops a.tmps) = true := by simp [Region.wanted, hg]
  rw [if_pos hw]
  subst hL
  have hz : (Value.int .u8 0).cells = #[.int .u8 0] := rfl
  have hr := run_make (P := P) w t e i _ h1 h2 h3 .i64 .i64 n n (by omega) (by omega) (by rw [h5]; omega) (by omega)
  simp only [Int.toNat_natCast, h4, Nat.mul_one, hz] at hr
  unfold Oper.wp
  simp [execOp, hop, hl, hr, Result.andThen]
  refine h _ ?_ ((Below.refl _ _).alloc (Nat.le_refl _) _)
  rw [heap_alloc_new]
  congr 1
  congr 1
  apply Array.toList_inj.1
  rw [toList_madeCells_one]

theorem step_text_zero {P : Program} {ops : Array Oper} {o : Oper} {a : Act} {w : World} {K : Act → World → Prop} {Q : Exit → Act → World → Prop} {E : Prop}
    (hg : o.guard = none) (x : Operand) (src dst e : TypeId) (hop : o.op = Op.convert src dst x) (hs : P.underlying src = some (.slice e)) (he : P.underlying e = some (.int .u8)) (hd : P.underlying dst = some .string)
    (b n cap : Nat) (hx : a.eval x = .slice (some ⟨b, 0, none⟩) n cap) (hc : w.heap[b]? = some (.cells (List.replicate n (.int .u8 0)).toArray e (0, 0)))
    (h : ∀ s : ByteArray, s.size = n → K (a.put o.dst (.string s)) w) :
    if Region.wanted o (yielded ops a.tmps) = true then Oper.wp P o a w K Q else E := by
  have hw : Region.wanted o (yielded ops a.tmps) = true := by simp [Region.wanted, hg]
  rw [if_pos hw]
  have hr := run_convert_bytes_back (P := P) w src dst e ⟨b, 0, none⟩ cap (List.replicate n 0) hs he hd (by
    intro j hj
    rw [List.length_replicate] at hj
    have hp : (⟨b, 0, none⟩ : Addr).add j = ⟨b, j, none⟩ := by unfold Addr.add; split <;> simp_all
    rw [hp]
    simp [World.cell?, hc, hj])
  rw [List.length_replicate] at hr
  unfold Oper.wp
  simp [execOp, hop, hx, hr, Result.andThen]
  exact h _ (by simp [ByteArray.size])

end Go.Proofs.YtckpacifimpkgadDoor

namespace Go.Proofs.YtckpacifimpkgadDoor
open Go.RowKit
set_option linter.unusedVariables false

/-- 'make([]byte, n, c)': a new row of c cells, all 0. -/
theorem wpList_make_room {P : Program} (w : World) {ops : Array Oper} {rest : List Oper} {o : Oper} {a : Act} {Q : Exit → Act → World → Prop}
    (hg : o.guard = none) (l c : Operand) (t : TypeId) (hop : o.op = Op.makeSlice t l c)
    (e : TypeId) (i : TypeInfo) (z : Value) (h1 : P.underlying t = some (.slice e)) (h2 : P.info? e = some i) (h3 : i.zero = some z) (h4 : i.size = 1) (hz : z.cells = #[z]) (h5 : i.bytes = 1)
    (kl kc : IntKind) (L C : Int) (n m : Nat) (hl : a.eval l = .int kl L) (hc : a.eval c = .int kc C) (hL : L = (n : Int)) (hC : C = (m : Int)) (hnm : n ≤ m) (b2 : m ≤ 2199023255552)
    (hK : ∀ w', w'.heap[w.heap.size]? = some (.cells (List.replicate m z).toArray e (0, 0)) → Below w.heap.size w w' → wpList P ops Q rest (a.put o.dst (.slice (some ⟨w.heap.size, 0, none⟩) n m)) w') :
    wpList P ops Q (o :: rest) a w := by
  refine wpList_plain hg fun K hK' => ?_
  subst hL hC
  have hr := run_make (P := P) w t e i z h1 h2 h3 kl kc n m (by omega) (by omega) (by rw [h5]; omega) (by omega)
  simp only [Int.toNat_natCast, h4, Nat.mul_one, hz] at hr
  unfold Oper.wp
  simp [execOp, hop, hl, hc, hr, Result.andThen]
  refine hK' _ _ (hK _ ?_ ((Below.refl _ _).alloc (Nat.le_refl _) _))
  rw [heap_alloc_new]
  congr 1
  congr 1
  apply Array.toList_inj.1
  rw [toList_madeCells_one]

theorem own_of_row {w : World} {g n c : Nat} {cur : List Value} {base : Nat} (h : w.heap[g]? = some (.cells cur.toArray 5 (0, 0))) (hb : base ≤ g) (hl : cur.length = c) (hn : n ≤ c) (hc : c ≤ maxLen) : w.ownsRow base 5 1 (.slice (some ⟨g, 0, none⟩) n c) n (cur.take n) :=
  ⟨by simp; omega, .inr ⟨g, c, cur.toArray, rfl, hb, h, hn, hc, by simpa using hl, by simp⟩⟩

end Go.Proofs.YtckpacifimpkgadDoor

namespace Go.Proofs.YtckpacifimpkgadDoor
open Go.RowKit
set_option linter.unusedVariables false

set_option maxHeartbeats 400000 in
theorem l1In_yes (x lo hi : Int) (w : World) (h1 : lo ≤ x) (h2 : x ≤ hi) : Calls Tryd.prog 49 #[.int .i64 x, .int .i64 lo, .int .i64 hi] w fun e w' => e = .returned (.bool true) ∧ w' = w := by
  go_enter Tryd.func49, Tryd.ntmps49
  go_wp2
  go_ret
  exact ⟨rfl, rfl⟩

set_option maxHeartbeats 400000 in
theorem l1In_no (x lo hi : Int) (w : World) (h : x < lo ∨ hi < x) : Calls Tryd.prog 49 #[.int .i64 x, .int .i64 lo, .int .i64 hi] w fun e w' => e = .returned (.bool false) ∧ w' = w := by
  by_cases h1 : x < lo
  · clear h
    go_enter Tryd.func49, Tryd.ntmps49
    go_wp2
    go_ret
    exact ⟨rfl, rfl⟩
  · have h2 : hi < x := by omega
    clear h
    go_enter Tryd.func49, Tryd.ntmps49
    go_wp2
    go_ret
    exact ⟨ret_bool (by simp; omega), rfl⟩

theorem l1In_any (x lo hi : Int) (w : World) : Calls Tryd.prog 49 #[.int .i64 x, .int .i64 lo, .int .i64 hi] w fun e w' => e = .returned (.bool (decide (lo ≤ x ∧ x ≤ hi))) ∧ w' = w := by
  by_cases h : lo ≤ x ∧ x ≤ hi
  · rw [decide_eq_true h]
    exact l1In_yes x lo hi w h.1 h.2
  · rw [decide_eq_false h]
    exact l1In_no x lo hi w (by omega)

end Go.Proofs.YtckpacifimpkgadDoor
