/- What the program's GetFrame answers, in memory of its own; nothing that was there is written. -/
import Derived.Test.YtcicboolbeognacFrGetNums
import Derived.Test.YtcicboolbeognacBox4
import Derived.Test.YtcicboolbeognacCopyAt
import Derived.Test.YtcicboolbeognacBigB
import Derived.Test.YtcicboolbeognacStepMake
import Derived.Deep.RegionHeld3
import Derived.Deep.Cut
namespace Go.Proofs.Ytcicboolbeognac
open Go.RowKit
set_option linter.unusedVariables false

theorem Seg.part {w : World} {b off len : Nat} {zs : List Int} (h : Seg w (some ⟨b, off, none⟩) len zs) (T n : Nat) (hT : T + n ≤ len) : Seg w (some ⟨b, off + T, none⟩) n ((zs.drop T).take n) := by
  have hl := h.1
  refine ⟨by rw [List.length_take, List.length_drop]; omega, fun x hx => h.2.1 x (List.mem_of_mem_drop (List.mem_of_mem_take hx)), ?_⟩
  rcases h.2.2 with h0 | ⟨b', off', e, hb, hc⟩
  · exact .inl (by omega)
  · simp only [Option.some.injEq, Addr.mk.injEq, and_true] at e
    obtain ⟨rfl, rfl⟩ := e
    refine .inr ⟨b, off + T, rfl, hb, fun i hi => ?_⟩
    rw [Nat.add_assoc, hc (T + i) (by omega)]
    rw [List.getD_eq_getElem?_getD, List.getD_eq_getElem?_getD, List.getElem?_take, if_pos hi, List.getElem?_drop]

theorem row_alloc {W : World} {b : Nat} {x : Obj} (h : W.heap[b]? = some x) (o : Obj) : (W.alloc o).heap[b]? = some x := by
  have hl := (Array.getElem?_eq_some_iff.1 h).1
  show (W.heap.push o)[b]? = _
  rw [Array.getElem?_push, if_neg (by omega)]
  exact h

theorem Seg.zero {w : World} (a : Option Addr) (zs : List Int) (T : Nat) : Seg w a 0 ((zs.drop T).take 0) := ⟨by simp, by simp, .inl rfl⟩

set_option maxHeartbeats 800000 in
theorem cut_no (a : Option Addr) (len cap n : Nat) (at_ : Int) (w : World) (hl : len ≤ 1099511627776) (hn : n ≤ 1099511627776) (ha : -9223372036854775808 ≤ at_ ∧ at_ ≤ 9223372036854775807) (h : ¬ (0 ≤ at_ ∧ at_ + n ≤ (len : Int))) :
    Calls Try.prog 52 #[.slice a len cap, .int .i64 at_, .int .i64 n] w fun e w' => e = .returned (.tuple #[.slice none 0 0, .bool false]) ∧ w' = w := by
  obtain ⟨ha0, ha1⟩ := ha
  by_cases h0 : at_ < 0
  · clear h
    go_enter Try.func52, Try.ntmps52
    go_wp2
    go_ret2
    exact ⟨rfl, rfl⟩
  · have h1 : (len : Int) - n < at_ := by omega
    clear h
    go_enter Try.func52, Try.ntmps52
    go_wp2
    go_ret2
    exact ⟨rfl, rfl⟩

set_option maxHeartbeats 800000 in
theorem cut_yes (a : Option Addr) (len cap n T : Nat) (zs : List Int) (w : World) (hs : Seg w a len zs) (hc : len ≤ cap) (hl : len ≤ 1099511627776) (h : T + n ≤ len) :
    Calls Try.prog 52 #[.slice a len cap, .int .i64 T, .int .i64 n] w fun e w' => ∃ a', e = .returned (.tuple #[.slice a' n n, .bool true]) ∧ Seg w a' n ((zs.drop T).take n) ∧ w' = w := by
  have HS : Hid (Seg w a len zs) := hs
  clear hs
  have h1 : ¬ (len : Int) - n < T := by omega
  by_cases h0 : n = 0
  · subst h0
    cases a with
    | none =>
      have hl0 : len = 0 := by
        rcases HS.out.2.2 with h | ⟨b, off, e, _⟩
        · exact h
        · cases e
      subst hl0
      obtain rfl : T = 0 := by omega
      go_enter Try.func52, Try.ntmps52
      go_wp2
      go_ret2
      exact ⟨_, rfl, Seg.zero none zs 0, rfl⟩
    | some ad =>
      go_enter Try.func52, Try.ntmps52
      go_wp2
      go_ret2
      exact ⟨_, rfl, Seg.zero (some ad) zs T, rfl⟩
  · obtain ⟨b, off, rfl⟩ : ∃ b off, a = some ⟨b, off, none⟩ := by
      rcases HS.out.2.2 with h | ⟨b, off, e, _⟩
      · omega
      · exact ⟨b, off, e⟩
    go_enter Try.func52, Try.ntmps52
    go_wp2
    go_ret2
    exact ⟨_, rfl, HS.out.part T n h, rfl⟩

set_option maxRecDepth 10000 in
set_option maxHeartbeats 1600000 in
theorem frameOf_any (ha ba : Option Addr) (n : Nat) (hd bs : List Int) (w : World) (hh : Seg w ha 9 hd) (hb : Seg w ba n bs) (hn : n ≤ 1000) :
    Calls Try.prog 54 #[.slice ha 9 9, .slice ba n n] w fun e w' => ∃ g, e = .returned (.agg #[.int .i64 (hd.getD 3 0), .int .i64 (hd.getD 4 0), .int .i64 (bits BinOp.and IntKind.i64 (gb ((hd.drop 5).take 4)) 2147483647), .slice (some ⟨g, 0, none⟩) n n]) ∧ Owns w' w.heap.size (some ⟨g, 0, none⟩) n n bs ∧ Below w.heap.size w w' := by
  obtain ⟨i0, hi, hz0, hz1, hz2⟩ := info_parts Try.info5
  have HH : Hid (Seg w ha 9 hd) := hh
  have HBd : Hid (Seg w ba n bs) := hb
  have hmk : ∀ W : World, (Instr.makeSlice 22 (.int .i64 n) (.int .i64 n)).run Try.prog W = .ok (.slice (some ⟨W.heap.size, 0, none⟩) n n) (W.alloc (.cells (List.replicate n (.int .u8 0)).toArray 5)) := fun W => run_make_zero W 22 5 i0 Try.underlying22 hi hz0 hz1 hz2 n (by omega)
  obtain ⟨b, off, rfl, hbl, hc⟩ : ∃ b off, ha = some ⟨b, off, none⟩ ∧ b < w.heap.size ∧ ∀ i, i < 9 → w.cell? ⟨b, off + i, none⟩ = some (.int .u8 (hd.getD i 0)) := by
    rcases hh.2.2 with h | h
    · omega
    · exact h
  have hc3 := hc 3 (by omega)
  have hc4 := hc 4 (by omega)
  have hr3 := hh.range 3
  have hr4 := hh.range 4
  clear hh hb hc
  have HB0 : Hid (Below w.heap.size w (w.alloc (.cells #[.int .i64 0, .int .i64 0, .int .i64 0, .slice none 0 0] 44))) := (Below.refl _ _).alloc (Nat.le_refl _) _
  have HX0 : Hid (Box4 (w.alloc (.cells #[.int .i64 0, .int .i64 0, .int .i64 0, .slice none 0 0] 44)) w.heap.size 44 (.int .i64 0) (.int .i64 0) (.int .i64 0) (.slice none 0 0)) := Box4.new _ _ _ _ _ _
  generalize hd.getD 3 0 = p3 at *
  generalize hd.getD 4 0 = p4 at *
  obtain ⟨hr30, hr31⟩ := hr3
  obtain ⟨hr40, hr41⟩ := hr4
  obtain ⟨st, hst⟩ : ∃ st, gb ((hd.drop 5).take 4) = st := ⟨_, rfl⟩
  have HST : Hid (gb ((hd.drop 5).take 4) = st) := hst
  rw [hst]
  clear hst
  obtain ⟨sm, hsm⟩ : ∃ sm, bits BinOp.and IntKind.i64 st 2147483647 = sm := ⟨_, rfl⟩
  rw [hsm]
  go_enter Try.func54, Try.ntmps54
  go_wp2_with fail
  refine (implGet_yes (some ⟨b, off, none⟩) 9 9 5 4 hd _ (HH.out.below HB0.out) (by omega) (by omega) (by omega) (by omega) (by omega)).mono ?_
  rintro e x1 ⟨rfl, rfl⟩
  rw [HST.out]
  obtain ⟨x1, hx1⟩ : ∃ x1, w.alloc (.cells #[.int .i64 0, .int .i64 0, .int .i64 0, .slice none 0 0] 44) = x1 := ⟨_, rfl⟩
  rw [hx1] at HB0 HX0 ⊢
  clear hx1
  have k3 : x1.cell? ⟨b, off + 3, none⟩ = some (.int .u8 p3) := (HB0.out.cell (p := ⟨b, _, none⟩) hbl).trans hc3
  have k4 : x1.cell? ⟨b, off + 4, none⟩ = some (.int .u8 p4) := (HB0.out.cell (p := ⟨b, _, none⟩) hbl).trans hc4
  have hlt : w.heap.size < x1.heap.size := HX0.out.lt
  have hlta : ¬ b = x1.heap.size := by omega
  have hltb : ¬ b = x1.heap.size + 1 := by omega
  clear hc3 hc4
  have hw3 : IntKind.i64.wrap p3 = p3 := by rw [IntKind.wrap_i64]; omega
  have hw4 : IntKind.i64.wrap p4 = p4 := by rw [IntKind.wrap_i64]; omega
  go_upto_region 2 with fail
  go_cut [7] from 13 (fun v7 W => ∃ bx g, v7 = .pointer (some ⟨bx, 0, none⟩) ∧ Hid (x1.heap.size ≤ bx ∧ x1.heap.size ≤ g ∧ bx ≠ g ∧ Below x1.heap.size x1 W ∧ Box4 W bx 44 (.int .i64 p3) (.int .i64 p4) (.int .i64 sm) (.slice (some ⟨g, 0, none⟩) n n) ∧ W.heap[g]? = some (.cells ((List.replicate n (0 : Int)).map (Value.int .u8)).toArray 5 (0, 0))))
  case first =>
    go_region_held3 (fun W => W.cell? ⟨b, off + 3, none⟩ = some (.int .u8 p3) ∧ W.cell? ⟨b, off + 4, none⟩ = some (.int .u8 p4)) (first | (refine ⟨?_, ?_⟩ <;> assumption) | go_keep) (fail)
    all_goals
      go_wp2_with fail
      go_meet
      have hrep : (Array.replicate n (Value.int .u8 0)) = ((List.replicate n (0 : Int)).map (Value.int .u8)).toArray := by simp
      have hsz : ∀ o, (x1.alloc o).heap.size = x1.heap.size + 1 := fun o => by simp
      rw [hrep]
      first
        | refine ⟨x1.heap.size + 1, x1.heap.size, rfl, ?_⟩
          have h1 := Box4.new (x1.alloc (.cells ((List.replicate n (0 : Int)).map (Value.int .u8)).toArray 5)) 44 (.int .i64 p3) (.int .i64 p4) (.int .i64 sm) (.slice (some ⟨x1.heap.size, 0, none⟩) n n)
          rw [hsz] at h1
          exact ⟨by omega, Nat.le_refl _, by omega, (((Below.refl _ _).alloc (Nat.le_refl _) _).alloc (by simp) _).drew, h1, row_alloc (heap_alloc_new x1 _) _⟩
        | refine ⟨x1.heap.size, x1.heap.size + 1, rfl, ?_⟩
          have h1 := heap_alloc_new (x1.alloc (.cells #[.int .i64 p3, .int .i64 p4, .int .i64 sm, .slice (some ⟨x1.heap.size + 1, 0, none⟩) n n] 44)) (.cells ((List.replicate n (0 : Int)).map (Value.int .u8)).toArray 5)
          rw [hsz] at h1
          exact ⟨Nat.le_refl _, by omega, by omega, (((Below.refl _ _).alloc (Nat.le_refl _) _).alloc (by simp) _).drew, (Box4.new x1 44 (.int .i64 p3) (.int .i64 p4) (.int .i64 sm) (.slice (some ⟨x1.heap.size + 1, 0, none⟩) n n)).alloc _, h1⟩
        | fail
  case rest =>
  obtain ⟨bx, g, rfl, HC⟩ := hcut
  clear k3 k4
  obtain ⟨x2, hx2⟩ : ∃ x2, wc = x2 := ⟨_, rfl⟩
  rw [hx2] at HC ⊢
  clear hx2
  obtain ⟨hbx, hgx, hne, hb12, hbox, hrow⟩ := HC.out
  have HB2 : Hid (Below w.heap.size w x2) := HB0.out.trans (hb12.mono (Nat.le_of_lt hlt))
  have HX2 : Hid (Box4 x2 w.heap.size 44 (.int .i64 0) (.int .i64 0) (.int .i64 0) (.slice none 0 0)) := HX0.out.stays hb12
  obtain ⟨x3, hrun, hg3, hb3, hgr3⟩ := copy_at x2 g 0 n n n ba n bs (List.replicate n (0 : Int)) (HBd.out.below HB2.out) hrow (Nat.le_refl _) (by simp)
  have HB3 : Hid (Below w.heap.size w x3) := HB2.out.trans (hb3.mono (by omega))
  have HX3 : Hid (Box4 x3 w.heap.size 44 (.int .i64 0) (.int .i64 0) (.int .i64 0) (.slice none 0 0)) := HX2.out.grown hgr3 (fun e => by injection e with e; omega)
  have HF3 : Hid (Box4 x3 bx 44 (.int .i64 p3) (.int .i64 p4) (.int .i64 sm) (.slice (some ⟨g, 0, none⟩) n n)) := hbox.grown hgr3 (fun e => by injection e with e; omega)
  have HO3 : Hid (x3.ownsRow x1.heap.size 5 1 (.slice (some ⟨g, 0, none⟩) n n) n (bs.map (Value.int .u8))) := by
    have hbl := HBd.out.1
    rw [List.take_zero, List.nil_append, List.drop_of_length_le (by simp), List.append_nil] at hg3
    have h := row_own hg3 (base := x1.heap.size) hgx (n := n) (c := n) (by simp [hbl]) (Nat.le_refl _) (by unfold maxLen; omega)
    rw [List.take_of_length_le (by simp [hbl])] at h
    exact h
  obtain ⟨d0, d1, d2, d3⟩ := hbox.cells
  clear HC hb12 hbox hrow hg3 hb3 hgr3 HX2 HB2 hbx hgx hne
  obtain ⟨c0, c1, c2, c3⟩ := HF3.out.cells
  obtain ⟨e0, e1, e2, e3⟩ := HX3.out.cells
  have f0 := HX3.out.frozen 0
  have f1 := HX3.out.frozen 1
  have f2 := HX3.out.frozen 2
  have f3 := HX3.out.frozen 3
  go_wp2_with fail
  refine bodyPost_ret (v := .agg #[.int .i64 p3, .int .i64 p4, .int .i64 sm, .slice (some ⟨g, 0, none⟩) n n]) (by simp [results, Try.f54, go_sem, e0, e1, e2, e3]) rfl ?_
  refine ⟨g, rfl, ⟨own_low (base := x1.heap.size) ?_ (Nat.le_of_lt hlt), HBd.out.2.1⟩, ?_⟩
  · exact ownsRow_setCell_below (ownsRow_setCell_below (ownsRow_setCell_below (ownsRow_setCell_below HO3.out (by dsimp only; omega) _) (by dsimp only; omega) _) (by dsimp only; omega) _) (by dsimp only; omega) _
  · exact (((HB3.out.setCell (Nat.le_refl _) _).setCell (Nat.le_refl _) _).setCell (Nat.le_refl _) _).setCell (Nat.le_refl _) _

end Go.Proofs.Ytcicboolbeognac
