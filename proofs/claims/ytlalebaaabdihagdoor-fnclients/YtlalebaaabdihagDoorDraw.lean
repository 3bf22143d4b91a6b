/- What the draws give: a cursor over the code's bytes that only its own block is written by; numbers of a list; bytes in memory of its own. For codes of at most 2^40 bytes. -/
import Derived.Test.YtlalebaaabdihagDoorOwn
namespace Go.Proofs.YtlalebaaabdihagDoor
open Go.RowKit
set_option linter.unusedVariables false

/-- The cursor in block c: the code's bytes lie below block B, which is not above c. -/
def Cur (w : World) (B c : Nat) (a : Option Addr) (len cap : Nat) (zs : List Int) : Prop :=
  B ≤ c ∧ (∀ x, a = some x → len ≠ 0 → x.block < B) ∧ Seg w a len zs ∧
    ∃ (i : Nat) (h : Int), i ≤ len ∧ w.heap[c]? = some (.cells #[.slice a len cap, .int .i64 i, .int .i64 h] 55 (0, 0))

theorem and_mask (x : Int) (m : Nat) (hm : m < 9223372036854775808) : 0 ≤ bits .and .i64 x (m : Int) ∧ bits .and .i64 x (m : Int) ≤ (m : Int) := by
  have e : bits .and .i64 x (m : Int) = (((BitVec.ofInt 64 x).toNat &&& m : Nat) : Int) := by
    show IntKind.i64.wrap ((BitVec.ofInt 64 x &&& BitVec.ofInt 64 (m : Int)).toNat : Int) = _
    rw [BitVec.toNat_and, ofInt64 m (by omega)]
    have h1 : (BitVec.ofInt 64 x).toNat &&& m ≤ m := Nat.and_le_right
    exact wrap_i64_small _ (by omega)
  have h1 : (BitVec.ofInt 64 x).toNat &&& m ≤ m := Nat.and_le_right
  rw [e]
  omega

theorem cur_new {w : World} {a : Option Addr} {len cap : Nat} {zs : List Int} (hs : Seg w a len zs) (h : Int) :
    Cur (w.alloc (.cells #[.slice a len cap, .int .i64 0, .int .i64 h] 55)) w.heap.size w.heap.size a len cap zs := by
  refine ⟨Nat.le_refl _, ?_, hs.below ((Below.refl _ _).alloc (Nat.le_refl _) _), 0, h, Nat.zero_le _, heap_alloc_new w _⟩
  rintro x rfl hl
  rcases hs.2.2 with h0 | ⟨b, off, e, hb, _⟩
  · exact absurd h0 hl
  · obtain rfl := Option.some.inj e
    exact hb

set_option maxRecDepth 10000 in
set_option maxHeartbeats 400000 in
theorem l1New_any (a : Option Addr) (len cap : Nat) (zs : List Int) (w : World) (hs : Seg w a len zs) (hl : len ≤ 1099511627776) :
    Calls Tryd.prog 14 #[.slice a len cap] w fun e w' => e = .returned (.pointer (some ⟨w.heap.size, 0, none⟩)) ∧ Cur w' w.heap.size w.heap.size a len cap zs ∧ Below w.heap.size w w' := by
  have HS : Hid (Seg w a len zs) := hs
  clear hs
  go_enter Tryd.func14, Tryd.ntmps14
  go_wp2
  go_loop [3, 4] (fun n i => ∃ (k : Nat) (m : Int), k ≤ len ∧ i = .int .i64 k ∧ n = .int .i64 m) (fun _ i => len - (intOf i).toNat)
  case atStart => exact ⟨0, _, Nat.zero_le _, rfl, rfl⟩
  case round =>
    obtain ⟨k, m, hk, rfl, rfl⟩ := hrel
    by_cases hlt : k < len ∧ k < 4000
    · obtain ⟨hlt, h4⟩ := hlt
      obtain ⟨b, off, rfl, hb, hc⟩ : ∃ b off, a = some ⟨b, off, none⟩ ∧ b < w.heap.size ∧ ∀ i, i < len → w.cell? ⟨b, off + i, none⟩ = some (.int .u8 (zs.getD i 0)) := by
        rcases HS.out.2.2 with h | h
        · omega
        · exact h
      have hcell : w.cell? ⟨b, off + k, none⟩ = some (.int .u8 (zs.getD k 0)) := hc k hlt
      have h4i : (k : Int) < 4000 := by omega
      clear hc h4
      go_wp2
      go_round
      case rel => exact ⟨k + 1, _, by omega, by go_num, rfl⟩
      case measure => simp [intOf]; omega
    · by_cases hlt2 : k < len
      · have h4i : ¬ (k : Int) < 4000 := by omega
        clear hlt
        go_wp2
        go_ret
        exact ⟨rfl, cur_new HS.out _, (Below.refl _ _).alloc (Nat.le_refl _) _⟩
      · clear hlt
        go_wp2
        go_ret
        exact ⟨rfl, cur_new HS.out _, (Below.refl _ _).alloc (Nat.le_refl _) _⟩

theorem cells_of_three {w : World} {c : Nat} {x y z : Value} {t : TypeId} (h : w.heap[c]? = some (.cells #[x, y, z] t (0, 0))) :
    w.cell? ⟨c, 0, none⟩ = some x ∧ w.cell? ⟨c, 1, none⟩ = some y ∧ w.cell? ⟨c, 2, none⟩ = some z ∧ w.frozen? ⟨c, 1, none⟩ = false ∧ w.frozen? ⟨c, 2, none⟩ = false := by
  refine ⟨?_, ?_, ?_, frozen_of_row w c 1 _ t h, frozen_of_row w c 2 _ t h⟩
  · rw [cell_of_row w c 0 _ t (0, 0) h]; rfl
  · rw [cell_of_row w c 1 _ t (0, 0) h]; rfl
  · rw [cell_of_row w c 2 _ t (0, 0) h]; rfl

theorem gset (w : World) (c o : Nat) (v : Value) : w.grownBy (w.setCell ⟨c, o, none⟩ v) (some c) :=
  ⟨rfl, rfl, rfl, by simp [World.setCell], fun k _ hk => Below.heap_setCell _ _ _ _ (fun e => hk (by simp [e]))⟩
theorem gdrew (w : World) (n : Nat) (row : Option Nat) : w.grownBy (w.drewN n) row := ⟨rfl, rfl, rfl, Nat.le_refl _, fun _ _ _ => rfl⟩
theorem gtrans {w w1 w2 : World} {row : Option Nat} (h : w.grownBy w1 row) (k : w1.grownBy w2 row) : w.grownBy w2 row :=
  ⟨k.os.trans h.os, k.tape.trans h.tape, k.output.trans h.output, Nat.le_trans h.size k.size, fun j hj hne => (k.block j (Nat.lt_of_lt_of_le hj h.size) hne).trans (h.block j hj hne)⟩
theorem gbelow {w w' : World} (h : Below w.heap.size w w') (row : Option Nat) : w.grownBy w' row := ⟨h.os, h.tape, h.output, h.size, fun k hk _ => h.block k hk⟩

theorem seg_grown {w w' : World} {B c : Nat} {a : Option Addr} {len : Nat} {zs : List Int} (hB : B ≤ c) (hlow : ∀ x, a = some x → len ≠ 0 → x.block < B) (hs : Seg w a len zs) (hg : w.grownBy w' (some c)) : Seg w' a len zs := by
  refine ⟨hs.1, hs.2.1, ?_⟩
  by_cases h0 : len = 0
  · exact .inl h0
  · rcases hs.2.2 with h | ⟨b, off, rfl, hb, hc⟩
    · exact .inl h
    · have hbB : b < B := hlow _ rfl h0
      refine .inr ⟨b, off, rfl, Nat.lt_of_lt_of_le hb hg.size, fun i hi => ?_⟩
      exact (World.cell?_of_block (w := w) (a := ⟨b, off + i, none⟩) (hg.block b hb (fun e => by have := Option.some.inj e; omega))).trans (hc i hi)

theorem Cur.again {w w' : World} {B c : Nat} {a : Option Addr} {len cap : Nat} {zs : List Int} (hB : B ≤ c) (hlow : ∀ x, a = some x → len ≠ 0 → x.block < B) (hs : Seg w a len zs) (hg : w.grownBy w' (some c))
    (i : Nat) (h : Int) (hi : i ≤ len) (hh : w'.heap[c]? = some (.cells #[.slice a len cap, .int .i64 i, .int .i64 h] 55 (0, 0))) : Cur w' B c a len cap zs :=
  ⟨hB, hlow, seg_grown hB hlow hs hg, i, h, hi, hh⟩

/-- A world in which other blocks than the cursor's have turned, and new ones come. -/
theorem Cur.kept {w w' : World} {B c : Nat} {a : Option Addr} {len cap : Nat} {zs : List Int} {row : Option Nat} (h : Cur w B c a len cap zs) (hg : w.grownBy w' row) (hr : ∀ k, row = some k → B ≤ k ∧ k ≠ c) : Cur w' B c a len cap zs := by
  obtain ⟨hB, hlow, hs, i, hh, hi, hc⟩ := h
  have hcl : c < w.heap.size := by
    by_cases hk : c < w.heap.size
    · exact hk
    · rw [Array.getElem?_eq_none (by omega)] at hc; cases hc
  refine ⟨hB, hlow, ?_, i, hh, hi, (hg.block c hcl (fun e => (hr c e.symm).2 rfl)).trans hc⟩
  refine ⟨hs.1, hs.2.1, ?_⟩
  by_cases h0 : len = 0
  · exact .inl h0
  · rcases hs.2.2 with h | ⟨b, off, rfl, hb, hcc⟩
    · exact .inl h
    · have hbB : b < B := hlow _ rfl h0
      refine .inr ⟨b, off, rfl, Nat.lt_of_lt_of_le hb hg.size, fun j hj => ?_⟩
      exact (World.cell?_of_block (w := w) (a := ⟨b, off + j, none⟩) (hg.block b hb (fun e => by have := (hr b e.symm).1; omega))).trans (hcc j hj)

theorem Cur.lt {w : World} {B c : Nat} {a : Option Addr} {len cap : Nat} {zs : List Int} (h : Cur w B c a len cap zs) : c < w.heap.size := by
  obtain ⟨_, _, _, i, hh, _, hc⟩ := h
  by_cases hk : c < w.heap.size
  · exact hk
  · rw [Array.getElem?_eq_none (by omega)] at hc; cases hc

set_option maxRecDepth 10000 in
set_option maxHeartbeats 400000 in
theorem l1Byte_any (B c : Nat) (a : Option Addr) (len cap : Nat) (zs : List Int) (w : World) (hcur : Cur w B c a len cap zs) (hl : len ≤ 1099511627776) :
    Calls Tryd.prog 41 #[.pointer (some ⟨c, 0, none⟩)] w fun e w' => ∃ x : Int, 0 ≤ x ∧ x ≤ 255 ∧ e = .returned (.int .i64 x) ∧ Cur w' B c a len cap zs ∧ w.grownBy w' (some c) := by
  obtain ⟨hB, hlow, hs, i, h, hi, hh⟩ := hcur
  obtain ⟨c0, c1, c2, f1, f2⟩ := cells_of_three hh
  have HH : Hid _ := hh
  have HS : Hid (Seg w a len zs) := hs
  have HL : Hid (∀ x, a = some x → len ≠ 0 → x.block < B) := hlow
  clear hh hs hlow
  by_cases hlt : i < len
  · obtain ⟨b, off, rfl, hb, hc⟩ : ∃ b off, a = some ⟨b, off, none⟩ ∧ b < w.heap.size ∧ ∀ i, i < len → w.cell? ⟨b, off + i, none⟩ = some (.int .u8 (zs.getD i 0)) := by
      rcases HS.out.2.2 with h | h
      · omega
      · exact h
    have hbB := HL.out _ rfl (by omega)
    have hbc : ¬ b = c := by simp at hbB; omega
    have hcell : w.cell? ⟨b, off + i, none⟩ = some (.int .u8 (zs.getD i 0)) := hc i hlt
    clear hc hbB
    go_enter Tryd.func41, Tryd.ntmps41
    go_wp2
    generalize wrap64 (wrap64 (h * 6364136223846793005) + 1442695040888963407) = h'
    go_quiet (fail)
    go_wp2
    obtain ⟨hx0, hx1⟩ := and_mask (bits BinOp.xor .i64 (h' / 8589934592) (h' / 140737488355328)) 255 (by omega)
    generalize bits BinOp.and .i64 (bits BinOp.xor .i64 (h' / 8589934592) (h' / 140737488355328)) 255 = x at *
    go_quiet (fail)
    go_wp2
    go_quiet (fail)
    go_wp2
    go_ret
    obtain ⟨hy0, hy1⟩ := and_mask (wrap64 (x + wrap64 (zs.getD i 0))) 255 (by omega)
    refine ⟨_, hy0, hy1, by simp, ?_, ?_⟩
    · refine Cur.again hB HL.out HS.out (gtrans (gtrans (gset w c 2 _) (gdrew _ _ _)) (gset _ c 1 _)) (i + 1) h' (by omega) ?_
      have h1 := heap_setCell_same w c 2 _ 55 (.int .i64 h') HH.out
      exact heap_setCell_same ((w.setCell ⟨c, 2, none⟩ (.int .i64 h')).drewN _) c 1 _ 55 _ h1
    · exact gtrans (gtrans (gset w c 2 _) (gdrew _ _ _)) (gset _ c 1 _)
  · go_enter Tryd.func41, Tryd.ntmps41
    go_wp2
    generalize wrap64 (wrap64 (h * 6364136223846793005) + 1442695040888963407) = h'
    go_quiet (fail)
    go_wp2
    obtain ⟨hx0, hx1⟩ := and_mask (bits BinOp.xor .i64 (h' / 8589934592) (h' / 140737488355328)) 255 (by omega)
    generalize bits BinOp.and .i64 (bits BinOp.xor .i64 (h' / 8589934592) (h' / 140737488355328)) 255 = x at *
    go_quiet (fail)
    go_wp2
    go_ret
    refine ⟨x, hx0, hx1, rfl, ?_, ?_⟩
    · exact Cur.again hB HL.out HS.out (gtrans (gtrans (gset w c 2 _) (gdrew _ _ _)) (gdrew _ _ _)) i h' hi (heap_setCell_same w c 2 _ 55 (.int .i64 h') HH.out)
    · exact gtrans (gtrans (gset w c 2 _) (gdrew _ _ _)) (gdrew _ _ _)

end Go.Proofs.YtlalebaaabdihagDoor
