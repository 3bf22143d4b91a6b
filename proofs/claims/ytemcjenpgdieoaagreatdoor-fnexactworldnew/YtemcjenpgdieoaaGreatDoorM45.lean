/- What the library's Repeat answers of one number. What the program's WorldNew answers. A list of bytes that comes in, in a struct. Clients that come in: their cells, their bytes wherever they lie. -/
import Derived.Test.YtemcjenpgdieoaaGreatDoorM36
import Derived.Test.YtemcjenpgdieoaaGreatDoorM03
import Derived.Test.YtemcjenpgdieoaaGreatDoorM40
import Derived.Laws.CopyRow
import Derived.OwnWalk
import Derived.WalkSmall
import Derived.Test.YtemcjenpgdieoaaGreatDoorM41
import Derived.Test.YtemcjenpgdieoaaGreatDoorM44
import Derived.Test.YtemcjenpgdieoaaGreatDoorM01
import Derived.Deep.Slices
import Derived.Lib.SmallJoins
import Derived.Test.YtemcjenpgdieoaaGreatDoorM10
import Derived.OpenShut
import Derived.ChangeOld
import Derived.WalkKit
import Derived.ProofKit
import Derived.Deep.SlicePairs
namespace Go.Proofs.YtemcjenpgdieoaaGreatDoor
open Go.RowKit
set_option linter.unusedVariables false

theorem and32 (n : Nat) (h : n ≤ 1048576) : bits BinOp.and IntKind.u64 (n : Int) 4294967295 = (n : Int) := by
  have h1 : (BitVec.ofInt 64 (n : Int)).toNat = n := by rw [BitVec.toNat_ofInt]; omega
  have h2 : (BitVec.ofInt 64 4294967295).toNat = 4294967295 := by decide
  have h3 : (BitVec.ofInt 64 (n : Int) &&& BitVec.ofInt 64 4294967295).toNat = n := by
    rw [BitVec.toNat_and, h1, h2, show (4294967295 : Nat) = 2 ^ 32 - 1 from rfl, Nat.and_two_pow_sub_one_eq_mod]
    exact Nat.mod_eq_of_lt (by omega)
  show IntKind.u64.wrap ((BitVec.ofInt 64 (n : Int) &&& BitVec.ofInt 64 4294967295).toNat : Int) = _
  rw [h3, IntKind.wrap_u64]
  omega

set_option maxRecDepth 10000 in
set_option maxHeartbeats 400000 in
theorem mul64_any (n : Nat) (w : World) (hn : n ≤ 1048576) : Calls Tryz.prog 85 #[.int .u64 1, .int .u64 n] w fun e w' => e = .returned (.tuple #[.int .u64 0, .int .u64 n]) ∧ Below w.heap.size w w' := by
  have h1 : bits BinOp.and IntKind.u64 1 4294967295 = 1 := and32 1 (by omega)
  have h2 := and32 n hn
  have h3 : (n : Int) / 4294967296 = 0 := by omega
  have h5 : IntKind.u64.wrap (1 * (n : Int)) = n := by rw [IntKind.wrap_u64]; omega
  have h4 : IntKind.u64.wrap (n : Int) = n := by rw [IntKind.wrap_u64]; omega
  go_enter Tryz.func85, Tryz.ntmps85
  go_wp2_with fail
  go_ret2
  refine ⟨?_, Below.refl _ _⟩
  have h0 : IntKind.u64.wrap 0 = 0 := by rw [IntKind.wrap_u64]; omega
  have h6 : bits BinOp.and IntKind.u64 0 4294967295 = 0 := and32 0 (by omega)
  simp [h0, h6]

set_option maxRecDepth 10000 in
theorem mul_any (n : Nat) (w : World) (hn : n ≤ 1048576) : Calls Tryz.prog 50 #[.int .u64 1, .int .u64 n] w fun e w' => e = .returned (.tuple #[.int .u64 0, .int .u64 n]) ∧ Below w.heap.size w w' := by
  go_enter Tryz.func50, Tryz.ntmps50
  go_wp2_with fail
  refine (mul64_any n _ hn).mono ?_
  rintro _ x1 ⟨rfl, hb1⟩
  have HB : Hid (Below w.heap.size w x1) := hb1
  clear hb1
  go_wp2_with fail
  go_ret2
  exact ⟨rfl, HB.out⟩

/-- A row of numbers of which the first k are -1, the rest 0. -/
def repTo (N k : Nat) : List Int := List.replicate k (-1) ++ List.replicate (N - k) 0

theorem repTo_len {N k : Nat} (h : k ≤ N) : (repTo N k).length = N := by simp [repTo]; omega

theorem repTo_step {N k m : Nat} (h : k + m ≤ N) : (icells (repTo N k)).toArray.toList.take k ++ icells (List.replicate m (-1)) ++ (icells (repTo N k)).toArray.toList.drop (k + m) = icells (repTo N (k + m)) := by
  have e1 : (icells (repTo N k)).take k = icells (List.replicate k (-1)) := by
    rw [repTo, icells, List.map_append, List.take_left' (by simp)]
    rfl
  have e2 : (icells (repTo N k)).drop (k + m) = icells (List.replicate (N - (k + m)) 0) := by
    rw [repTo, icells, List.map_append, ← List.drop_drop, List.drop_left' (by simp), ← List.map_drop, List.drop_replicate]
    rw [icells, show N - k - m = N - (k + m) by omega]
  have e3 : (icells (repTo N k)).toArray.toList = icells (repTo N k) := rfl
  rw [e3, e1, e2, repTo, ← List.replicate_append_replicate]
  simp [icells]

theorem rep_copy (w : World) (g N k m sl : Nat) (a : Addr) (sc : Nat) (hg : w.heap[g]? = some (.cells (icells (repTo N k)).toArray 3 (0, 0))) (hk : k + m ≤ N) (hm : m = Nat.min sl (N - k)) (hs : ∀ j, j < m → w.cell? (a.add j) = some (.int .i64 (-1))) :
    (Builtin.copy_ #[36, 36] 3 #[.slice (some ⟨g, k, none⟩) (N - k) (N - k), .slice (some a) sl sc]).run Tryz.prog w = .ok (.int .i64 (m : Int)) (w.setRow g (icells (repTo N (k + m))).toArray) := by
  have hl : (icells (List.replicate m (-1))).length = m := by simp [icells]
  have h := run_copy_row (P := Tryz.prog) w 36 36 3 3 g k (N - k) (N - k) a sl sc (icells (repTo N k)).toArray 3 (icells (List.replicate m (-1))) Tryz.underlying36 (by kernel_rfl) hg (by rw [hl]; exact hm) (fun j v hj => by
    have hj2 : j < m := by have := (List.getElem?_eq_some_iff.1 hj).1; omega
    rw [hs j hj2, ← hj, icells, List.getElem?_map, List.getElem?_replicate, if_pos hj2]
    rfl) (by rw [hl]; have := repTo_len (N := N) (k := k) (by omega); simp [icells]; omega) (fun v hv => by
    simp [icells] at hv
    rw [hv.2]
    rfl)
  rw [hl, repTo_step hk] at h
  exact h

theorem rep_made {w : World} {base g n : Nat} (h : w.ownsRow base 3 1 (.slice (some ⟨g, 0, none⟩) n n) n (madeCells (Value.int .i64 0).cells (n * 1)).toList) : w.heap[g]? = some (.cells (icells (repTo n 0)).toArray 3 (0, 0)) ∧ base ≤ g := by
  rcases h.2 with ⟨he, _⟩ | ⟨g', cap, cur, he, hb, hg, hnc, hcm, hcs, ht⟩
  · cases he
  · injection he with e1 e2 e3
    injection e1 with e1
    injection e1 with e1
    subst e1 e3
    refine ⟨?_, hb⟩
    rw [hg]
    congr 2
    apply Array.toList_inj.1
    have h1 : cur.toList.take (n * 1) = cur.toList := List.take_of_length_le (by rw [Array.length_toList, hcs]; exact Nat.le_refl _)
    rw [← h1, ht, show (Value.int .i64 0).cells = #[.int .i64 0] from rfl, toList_madeCells_one]
    simp [repTo, icells]

theorem rep_own {w : World} {base g n : Nat} (h : w.heap[g]? = some (.cells (icells (repTo n n)).toArray 3 (0, 0))) (hb : base ≤ g) (hn : n ≤ maxLen) : w.ownsRow base 3 1 (.slice (some ⟨g, 0, none⟩) n n) n (icells (List.replicate n (-1))) := by
  have e : repTo n n = List.replicate n (-1) := by simp [repTo]
  rw [e] at h
  exact ⟨by simp [icells], .inr ⟨g, n, _, rfl, hb, h, Nat.le_refl _, hn, by simp [icells], by simp [icells]⟩⟩

theorem rep_set (w : World) (g : Nat) (c : Array Value) : w.grownBy (w.setRow g c) (some g) := ⟨rfl, rfl, rfl, by simp, fun k _ hk => setRow_other w g k _ (fun e => hk (by simp [e]))⟩

theorem rep_first {w x0 x1 : World} {b n : Nat} (h0 : Below w.heap.size w x0) (hbl : b < w.heap.size) (hx : w.cell? ⟨b, 0, none⟩ = some (.int .i64 (-1))) (hown : x1.ownsRow w.heap.size 3 1 (.slice (some ⟨x0.heap.size, 0, none⟩) n n) n (madeCells (Value.int .i64 0).cells (n * 1)).toList) (hgrow : x0.grownBy x1 none) :
    ∃ m x2, (m ≤ n ∧ (n = 0 ∨ 1 ≤ m)) ∧ (Builtin.copy_ #[36, 36] 3 #[.slice (some ⟨x0.heap.size, 0, none⟩) n n, .slice (some ⟨b, 0, none⟩) 1 1]).run Tryz.prog x1 = .ok (.int .i64 (m : Int)) x2 ∧ x2.heap[x0.heap.size]? = some (.cells (icells (repTo n m)).toArray 3 (0, 0)) ∧ Below w.heap.size w x2 := by
  obtain ⟨hrow, hwg⟩ := rep_made hown
  have hB1 : Below w.heap.size w x1 := h0.grown hgrow h0.size (fun q hq => by cases hq)
  have hm : Nat.min 1 n ≤ n ∧ Nat.min 1 n ≤ 1 ∧ (n = 0 ∨ 1 ≤ Nat.min 1 n) := by simp only [Nat.min_def]; split <;> omega
  have hcp := rep_copy x1 x0.heap.size n 0 (Nat.min 1 n) 1 ⟨b, 0, none⟩ 1 hrow (by omega) (by rw [Nat.sub_zero]) (fun j hj => by
    obtain rfl : j = 0 := by omega
    exact (hB1.cell (p := ⟨b, 0, none⟩) hbl).trans hx)
  rw [Nat.sub_zero, Nat.zero_add] at hcp
  exact ⟨_, _, ⟨hm.1, hm.2.2⟩, hcp, setRow_heap x1 _ _ _ _ _ hrow, hB1.grown (rep_set _ _ _) hB1.size (fun q hq => by injection hq with hq; omega)⟩

set_option maxRecDepth 10000 in
set_option maxHeartbeats 1600000 in
theorem implRep_any (b n : Nat) (w : World) (hx : w.cell? ⟨b, 0, none⟩ = some (.int .i64 (-1))) (hn : n ≤ 1048576) :
    Calls Tryz.prog 19 #[.slice (some ⟨b, 0, none⟩) 1 1, .int .i64 n] w fun e w' => (∃ g, e = .returned (.slice (some ⟨g, 0, none⟩) n n) ∧ w'.ownsRow w.heap.size 3 1 (.slice (some ⟨g, 0, none⟩) n n) n (icells (List.replicate n (-1)))) ∧ Below w.heap.size w w' := by
  obtain ⟨i0, hi, hz0, hz1, hz2⟩ := info_parts Tryz.info3
  have hbl : b < w.heap.size := lt_of_cell hx
  have HC : Hid (w.cell? ⟨b, 0, none⟩ = some (.int .i64 (-1))) := hx
  have hnn : ¬ (n : Int) < 0 := by omega
  have w1 : IntKind.u64.wrap 1 = 1 := by rw [IntKind.wrap_u64]; omega
  have w2 : IntKind.u64.wrap (n : Int) = (n : Int) := by rw [IntKind.wrap_u64]; omega
  clear hx
  go_enter Tryz.func19, Tryz.ntmps19
  go_wp2_with fail
  refine (mul_any n _ hn).mono ?_
  rintro _ x0 ⟨rfl, hb0⟩
  have HB0 : Hid (Below w.heap.size w x0) := hb0
  clear hb0
  go_wp2_with (first | (at_make; refine _root_.Go.wpList_make_full _ rfl _ _ 36 rfl w.heap.size 3 i0 (.int .i64 0) 1 Tryz.underlying36 hi hz0 hz1 _ _ _ _ n rfl rfl (by go_num) (by go_num) (by rw [hz2]; omega) (by unfold maxLen; omega) HB0.out.size ?_; intro x1 hown hgrow; obtain ⟨m, x2, hm0, hcp, hr2, hb2⟩ := rep_first HB0.out hbl HC.out hown hgrow) | fail)
  have HR : Hid (x2.heap[x0.heap.size]? = some (.cells (icells (repTo n m)).toArray 3 (0, 0))) := hr2
  have HB : Hid (Below w.heap.size w x2) := hb2
  have hwg : w.heap.size ≤ x0.heap.size := HB0.out.size
  clear hown hgrow hr2 hb2 hcp
  go_loopw [8] (fun v wr => ∃ k : Nat, k ≤ n ∧ (n = 0 ∨ 1 ≤ k) ∧ v = .int .i64 k ∧ Hid (wr.heap[x0.heap.size]? = some (.cells (icells (repTo n k)).toArray 3 (0, 0))) ∧ Hid (Below w.heap.size w wr)) (fun v _ => n - (intOf v).toNat)
  case atStart => exact ⟨m, hm0.1, hm0.2, rfl, HR, HB⟩
  case round =>
    clear HR HB
    obtain ⟨k, hk, hk1, rfl, HR, HB⟩ := hrel
    by_cases hlt : k < n
    · have hki : (k : Int) < (n : Int) := by omega
      have hk0 : (0 : Int) ≤ (k : Int) := by omega
      have hkn : (k : Int) ≤ (n : Int) := by omega
      obtain ⟨m2, hm2⟩ : ∃ m2, Nat.min k (n - k) = m2 := ⟨_, rfl⟩
      have hm3 : m2 ≤ n - k ∧ m2 ≤ k ∧ 1 ≤ m2 := by rw [← hm2]; simp only [Nat.min_def]; split <;> omega
      have hcp := rep_copy wr.drew x0.heap.size n k m2 k ⟨x0.heap.size, 0, none⟩ n HR.out (by omega) hm2.symm (fun j hj => by
        rw [Addr.add_lit, Nat.zero_add, cell_of_row _ _ _ _ _ _ (show wr.drew.heap[x0.heap.size]? = _ from HR.out)]
        simp only [icells, repTo]
        rw [show ((List.map (Value.int IntKind.i64) (List.replicate k (-1) ++ List.replicate (n - k) 0)).toArray)[j]? = (List.map (Value.int IntKind.i64) (List.replicate k (-1) ++ List.replicate (n - k) 0))[j]? from by simp, List.getElem?_map, List.getElem?_append_left (by simp; omega), List.getElem?_replicate, if_pos (by omega)]
        rfl)
      have HR2 : Hid ((wr.drew.setRow x0.heap.size (icells (repTo n (k + m2))).toArray).heap[x0.heap.size]? = some (.cells (icells (repTo n (k + m2))).toArray 3 (0, 0))) := setRow_heap wr.drew _ _ _ _ _ HR.out
      have HB2 : Hid (Below w.heap.size w (wr.drew.setRow x0.heap.size (icells (repTo n (k + m2))).toArray)) := HB.out.drew.grown (rep_set _ _ _) (by have := HB.out.size; simpa using this) (fun q hq => by injection hq with hq; omega)
      clear HR HB hm2
      have t1 : (n : Int) - (k : Int) = ((n - k : Nat) : Int) := by omega
      have t2 : ¬ n = k := by omega
      have hwr : IntKind.i64.wrap ((k : Int) + (m2 : Int)) = ((k + m2 : Nat) : Int) := by rw [IntKind.wrap_i64]; omega
      go_wp2_with fail
      go_region_law (fail)
      all_goals
        simp only [List.getElem_toArray, List.getElem_cons_succ, List.getElem_cons_zero, put_mk, List.setIfInBounds_toArray, List.set_cons_succ, List.set_cons_zero]
        go_roundw
        case rel => exact ⟨_, _, _, _, _, _, _, _, _, _, _, _, _, _, ⟨k + m2, by omega, by omega, by go_num, HR2, HB2⟩, rfl⟩
        case measure => simp [intOf]; omega
    · obtain rfl : k = n := by omega
      have HO : Hid (wr.ownsRow w.heap.size 3 1 (.slice (some ⟨x0.heap.size, 0, none⟩) k k) k (icells (List.replicate k (-1)))) := rep_own HR.out hwg (by unfold maxLen; omega)
      clear HR
      go_wp2_with fail
      go_ret
      exact ⟨⟨_, rfl, HO.out⟩, HB.out⟩

end Go.Proofs.YtemcjenpgdieoaaGreatDoor

namespace Go.Proofs.YtemcjenpgdieoaaGreatDoor
open Go.RowKit
set_option linter.unusedVariables false

theorem made_bools {w : World} {base n : Nat} {v : Value} (h : w.ownsRow base 4 1 v n (madeCells (Value.bool false).cells (n * 1)).toList) : w.ownsRow base 4 1 v n (bcells (List.replicate n false)) := by
  have e : (madeCells (Value.bool false).cells (n * 1)).toList = bcells (List.replicate n false) := by
    rw [Nat.mul_one, show (Value.bool false).cells = #[.bool false] from rfl, toList_madeCells_one]
    simp [bcells]
  rw [e] at h
  exact h

set_option maxRecDepth 10000 in
set_option maxHeartbeats 6400000 in
theorem implWdNew_any (n : Int) (M : Nat) (hM : newN n = M) (hMb : M ≤ 1048576) (a : Option Addr) (k c lo : Nat) (l : List CE) (w : World) (h : ClRow w lo (.slice a k c) l) (hk : k = l.length) (hl : k ≤ 1048576) (hz : ∀ e ∈ l, e.u.id.size ≤ maxLen ∧ e.n ≤ 1048576) (ht : RecT w) (he : ErrN w) :
    Calls Tryz.prog 7 #[.int .i64 n, .slice a k c] w fun e w' => (∃ v, e = .returned v ∧ AnsWd w.heap.size (wdM M (l.map CE.u)) (wdU M (l.map CE.u)) v w') ∧ Below w.heap.size w w' := by
  obtain ⟨i4, hi4, jb0, jb1, jb2⟩ := info_parts info_bool
  have HMn : Hid (newN n = M) := hM
  have HZ : Hid (k = l.length ∧ (∀ e ∈ l, e.u.id.size ≤ maxLen ∧ e.n ≤ 1048576)) := ⟨hk, hz⟩
  obtain ⟨W2, hW2⟩ : ∃ W2, w.alloc (.cells #[.slice none 0 0, .slice none 0 0, .int .i64 0, .int .i64 0, .slice none 0 0, .slice none 0 0, .slice none 0 0, .slice none 0 0, .slice none 0 0, .slice none 0 0, .slice none 0 0] 38) = W2 := ⟨_, rfl⟩
  have HE : Hid (w.alloc (.cells #[.slice none 0 0, .slice none 0 0, .int .i64 0, .int .i64 0, .slice none 0 0, .slice none 0 0, .slice none 0 0, .slice none 0 0, .slice none 0 0, .slice none 0 0, .slice none 0 0] 38) = W2) := hW2
  have HB2 : Hid (Below w.heap.size w W2) := by show Below _ _ _; rw [← hW2]; exact (Below.refl _ _).alloc (Nat.le_refl _) _
  have q1 : BoxN W2 w.heap.size 38 [.slice none 0 0, .slice none 0 0, .int .i64 0, .int .i64 0, .slice none 0 0, .slice none 0 0, .slice none 0 0, .slice none 0 0, .slice none 0 0, .slice none 0 0, .slice none 0 0] := by rw [← hW2]; exact BoxN.new _ _ _
  have hs2 : w.heap.size < W2.heap.size := q1.lt
  have HX : Hid (∀ W, Below w.heap.size w W → ClRow W lo (.slice a k c) l ∧ RecT W ∧ ErrN W) := fun W hb => ⟨h.stays hb, ht.below hb, he.below hb⟩
  have HQ : Hid (∀ W, Below W2.heap.size W2 W → BoxN W w.heap.size 38 [.slice none 0 0, .slice none 0 0, .int .i64 0, .int .i64 0, .slice none 0 0, .slice none 0 0, .slice none 0 0, .slice none 0 0, .slice none 0 0, .slice none 0 0, .slice none 0 0]) := fun W hb => q1.stays hb
  clear hW2 q1 h hk hz ht he hM
  go_enter Tryz.func7, Tryz.ntmps7
  go_upto_region 1 with fail
  rw [HE.out]
  clear HE
  refine wp_region_grow 12 [Stay.val (.int .i64 n), ⟨fun v W => ∃ x1 y1 x2 y2 x3 y3, v = .agg #[.slice x1 M y1, .slice x2 M y2, .int .i64 0, .int .i64 0, .slice x3 0 y3, .slice none 0 0] ∧ StoAt W W2.heap.size x1 M y1 (List.replicate M ⟨#[]⟩) x2 M y2 (List.replicate M ⟨#[]⟩) x3 0 y3 [], fun ⟨x1, y1, x2, y2, x3, y3, h0, h1⟩ hb => ⟨x1, y1, x2, y2, x3, y3, h0, h1.stays hb⟩⟩, Stay.val (.slice a k c), Stay.val (.slice a k c), Stay.val (.int .i64 k), ⟨fun v W => ∃ x6, v = .slice x6 k k ∧ W.ownsRow W2.heap.size 4 1 (.slice x6 k k) k (bcells (List.replicate k false)), fun ⟨x6, h0, h1⟩ hb => ⟨x6, h0, own_below h1 hb⟩⟩, ⟨fun v W => ∃ x8, v = .slice (some ⟨x8, 0, none⟩) 1 1 ∧ W.cell? ⟨x8, 0, none⟩ = some (.int .i64 (-1)), fun ⟨x8, h0, h1⟩ hb => ⟨x8, h0, (hb.cell (p := ⟨x8, 0, none⟩) (lt_of_cell h1)).trans h1⟩⟩, Stay.val (.slice a k c), Stay.val (.int .i64 k), ⟨fun v W => ∃ x9, v = .slice x9 k k ∧ W.ownsRow W2.heap.size 3 1 (.slice x9 k k) k (icells (List.replicate k (-1))), fun ⟨x9, h0, h1⟩ hb => ⟨x9, h0, own_below h1 hb⟩⟩, ⟨fun v W => ∃ x1 y1 x2 y2 x3 y3 x6 x9, v = .agg #[.slice x1 M y1, .slice x2 M y2, .int .i64 0, .int .i64 0, .slice x3 0 y3, .slice none 0 0, .slice a k c, .slice x6 k k, .slice none 0 0, .slice none 0 0, .slice x9 k k] ∧ StoAt W W2.heap.size x1 M y1 (List.replicate M ⟨#[]⟩) x2 M y2 (List.replicate M ⟨#[]⟩) x3 0 y3 [] ∧ W.ownsRow W2.heap.size 4 1 (.slice x6 k k) k (bcells (List.replicate k false)) ∧ W.ownsRow W2.heap.size 3 1 (.slice x9 k k) k (icells (List.replicate k (-1))), fun ⟨x1, y1, x2, y2, x3, y3, x6, x9, h0, h1, h2, h3⟩ hb => ⟨x1, y1, x2, y2, x3, y3, x6, x9, h0, h1.stays hb, own_below h2 hb, own_below h3 hb⟩⟩, ⟨fun v W => ∃ g, v = .pointer (some ⟨g, 0, none⟩) ∧ W2.heap.size ≤ g ∧ BoxN W g 38 [.slice none 0 0, .slice none 0 0, .int .i64 0, .int .i64 0, .slice none 0 0, .slice none 0 0, .slice none 0 0, .slice none 0 0, .slice none 0 0, .slice none 0 0, .slice none 0 0], fun ⟨g, h0, h1, h2⟩ hb => ⟨g, h0, h1, h2.stays hb⟩⟩] (by kernel_rfl) (by kernel_rfl) ?_ ?_
  · refine (all_succ (all_succ (all_succ (all_succ (all_succ (all_succ (all_succ (all_succ (all_succ (all_succ (all_succ (all_succ all_zero ?g0) ?g1) ?g2) ?g3) ?g4) ?g5) ?g6) ?g7) ?g8) ?g9) ?g10) ?g11)
    case g0 =>
      intro o ho vs W hb hd
      have HBW : Hid (Below w.heap.size w W) := HB2.out.trans (hb.mono HB2.out.size)
      have HS : Hid (W2.heap.size ≤ W.heap.size) := hb.size
      have HXW : Hid (Below W2.heap.size W2 W) := hb
      clear hb
      obtain rfl := Option.some.inj ho
      clear ho hd
      intro K hK
      simp only [List.take, putsT, put_mk, List.setIfInBounds_toArray, List.set_cons_succ, List.set_cons_zero] at hK ⊢
      have HK : Hid _ := hK
      clear hK
      go_wp2_with fail
      exact HK.out _ _ (Below.refl _ _) rfl
    case g1 =>
      intro o ho vs W hb hd
      have HBW : Hid (Below w.heap.size w W) := HB2.out.trans (hb.mono HB2.out.size)
      have HS : Hid (W2.heap.size ≤ W.heap.size) := hb.size
      have HXW : Hid (Below W2.heap.size W2 W) := hb
      clear hb
      obtain rfl := Option.some.inj ho
      have h0 : vs 0 = _ := hd 0 (by decide) (by kernel_rfl)
      clear ho hd
      intro K hK
      simp only [List.take, putsT, put_mk, List.setIfInBounds_toArray, List.set_cons_succ, List.set_cons_zero] at hK ⊢
      rw [h0] at hK ⊢
      clear h0
      have HK : Hid _ := hK
      clear hK
      go_wp2_with fail
      refine (implServerNew_any n W).mono ?_
      rw [HMn.out]
      rintro e w' ⟨⟨x1, y1, x2, y2, x3, y3, rfl, hs⟩, hb1⟩
      go_wp2_with fail
      exact HK.out _ _ hb1 ⟨_, _, _, _, _, _, rfl, hs.low HS.out⟩
    case g2 =>
      intro o ho vs W hb hd
      have HBW : Hid (Below w.heap.size w W) := HB2.out.trans (hb.mono HB2.out.size)
      have HS : Hid (W2.heap.size ≤ W.heap.size) := hb.size
      have HXW : Hid (Below W2.heap.size W2 W) := hb
      clear hb
      obtain rfl := Option.some.inj ho
      clear ho hd
      intro K hK
      simp only [List.take, putsT, put_mk, List.setIfInBounds_toArray, List.set_cons_succ, List.set_cons_zero] at hK ⊢
      have HK : Hid _ := hK
      clear hK
      go_wp2_with fail
      exact HK.out _ _ (Below.refl _ _) rfl
    case g3 =>
      intro o ho vs W hb hd
      have HBW : Hid (Below w.heap.size w W) := HB2.out.trans (hb.mono HB2.out.size)
      have HS : Hid (W2.heap.size ≤ W.heap.size) := hb.size
      have HXW : Hid (Below W2.heap.size W2 W) := hb
      clear hb
      obtain rfl := Option.some.inj ho
      clear ho hd
      intro K hK
      simp only [List.take, putsT, put_mk, List.setIfInBounds_toArray, List.set_cons_succ, List.set_cons_zero] at hK ⊢
      have HK : Hid _ := hK
      clear hK
      go_wp2_with fail
      exact HK.out _ _ (Below.refl _ _) rfl
    case g4 =>
      intro o ho vs W hb hd
      have HBW : Hid (Below w.heap.size w W) := HB2.out.trans (hb.mono HB2.out.size)
      have HS : Hid (W2.heap.size ≤ W.heap.size) := hb.size
      have HXW : Hid (Below W2.heap.size W2 W) := hb
      clear hb
      obtain rfl := Option.some.inj ho
      have h3 : vs 3 = _ := hd 3 (by decide) (by kernel_rfl)
      clear ho hd
      intro K hK
      simp only [List.take, putsT, put_mk, List.setIfInBounds_toArray, List.set_cons_succ, List.set_cons_zero] at hK ⊢
      rw [h3] at hK ⊢
      clear h3
      have HK : Hid _ := hK
      clear hK
      go_wp2_with fail
      exact HK.out _ _ (Below.refl _ _) rfl
    case g5 =>
      intro o ho vs W hb hd
      have HBW : Hid (Below w.heap.size w W) := HB2.out.trans (hb.mono HB2.out.size)
      have HS : Hid (W2.heap.size ≤ W.heap.size) := hb.size
      have HXW : Hid (Below W2.heap.size W2 W) := hb
      clear hb
      obtain rfl := Option.some.inj ho
      have h4 : vs 4 = _ := hd 4 (by decide) (by kernel_rfl)
      clear ho hd
      intro K hK
      simp only [List.take, putsT, put_mk, List.setIfInBounds_toArray, List.set_cons_succ, List.set_cons_zero] at hK ⊢
      rw [h4] at hK ⊢
      clear h4
      have HK : Hid _ := hK
      clear hK
      go_wp2_with (first | (at_make; refine _root_.Go.wpList_make_full _ rfl _ _ 34 rfl W2.heap.size 4 i4 (.bool false) 1 Tryz.underlying34 hi4 jb0 jb1 _ _ _ _ k rfl rfl rfl rfl (by rw [jb2]; omega) (by unfold maxLen; omega) HS.out ?_; intro W3 hown hgrow) | fail)
      exact HK.out _ _ ((Below.refl _ _).grown hgrow (Nat.le_refl _) (fun q hq => by cases hq)) ⟨_, rfl, made_bools hown⟩
    case g6 =>
      intro o ho vs W hb hd
      have HBW : Hid (Below w.heap.size w W) := HB2.out.trans (hb.mono HB2.out.size)
      have HS : Hid (W2.heap.size ≤ W.heap.size) := hb.size
      have HXW : Hid (Below W2.heap.size W2 W) := hb
      clear hb
      obtain rfl := Option.some.inj ho
      clear ho hd
      intro K hK
      simp only [List.take, putsT, put_mk, List.setIfInBounds_toArray, List.set_cons_succ, List.set_cons_zero] at hK ⊢
      have HK : Hid _ := hK
      clear hK
      go_wp2_with fail
      exact HK.out _ _ ((Below.refl _ _).alloc (Nat.le_refl _) _) ⟨_, rfl, by simp⟩
    case g7 =>
      intro o ho vs W hb hd
      have HBW : Hid (Below w.heap.size w W) := HB2.out.trans (hb.mono HB2.out.size)
      have HS : Hid (W2.heap.size ≤ W.heap.size) := hb.size
      have HXW : Hid (Below W2.heap.size W2 W) := hb
      clear hb
      obtain rfl := Option.some.inj ho
      clear ho hd
      intro K hK
      simp only [List.take, putsT, put_mk, List.setIfInBounds_toArray, List.set_cons_succ, List.set_cons_zero] at hK ⊢
      have HK : Hid _ := hK
      clear hK
      go_wp2_with fail
      exact HK.out _ _ (Below.refl _ _) rfl
    case g8 =>
      intro o ho vs W hb hd
      have HBW : Hid (Below w.heap.size w W) := HB2.out.trans (hb.mono HB2.out.size)
      have HS : Hid (W2.heap.size ≤ W.heap.size) := hb.size
      have HXW : Hid (Below W2.heap.size W2 W) := hb
      clear hb
      obtain rfl := Option.some.inj ho
      have h7 : vs 7 = _ := hd 7 (by decide) (by kernel_rfl)
      clear ho hd
      intro K hK
      simp only [List.take, putsT, put_mk, List.setIfInBounds_toArray, List.set_cons_succ, List.set_cons_zero] at hK ⊢
      rw [h7] at hK ⊢
      clear h7
      have HK : Hid _ := hK
      clear hK
      go_wp2_with fail
      exact HK.out _ _ (Below.refl _ _) rfl
    case g9 =>
      intro o ho vs W hb hd
      have HBW : Hid (Below w.heap.size w W) := HB2.out.trans (hb.mono HB2.out.size)
      have HS : Hid (W2.heap.size ≤ W.heap.size) := hb.size
      have HXW : Hid (Below W2.heap.size W2 W) := hb
      clear hb
      obtain rfl := Option.some.inj ho
      obtain ⟨x8, h6, hx8⟩ := hd 6 (by decide) (by kernel_rfl)
      have h8 : vs 8 = _ := hd 8 (by decide) (by kernel_rfl)
      clear ho hd
      intro K hK
      simp only [List.take, putsT, put_mk, List.setIfInBounds_toArray, List.set_cons_succ, List.set_cons_zero] at hK ⊢
      rw [h6, h8] at hK ⊢
      clear h6 h8
      have HK : Hid _ := hK
      clear hK
      go_wp2_with fail
      refine (implRep_any x8 k W hx8 (by omega)).mono ?_
      rintro e w' ⟨⟨x9, rfl, hr⟩, hb1⟩
      go_wp2_with fail
      exact HK.out _ _ hb1 ⟨_, rfl, own_low hr HS.out⟩
    case g10 =>
      intro o ho vs W hb hd
      have HBW : Hid (Below w.heap.size w W) := HB2.out.trans (hb.mono HB2.out.size)
      have HS : Hid (W2.heap.size ≤ W.heap.size) := hb.size
      have HXW : Hid (Below W2.heap.size W2 W) := hb
      clear hb
      obtain rfl := Option.some.inj ho
      obtain ⟨x1, y1, x2, y2, x3, y3, h1, hs⟩ := hd 1 (by decide) (by kernel_rfl)
      have h2 : vs 2 = _ := hd 2 (by decide) (by kernel_rfl)
      obtain ⟨x6, h5, hbo⟩ := hd 5 (by decide) (by kernel_rfl)
      obtain ⟨x9, h9, hio⟩ := hd 9 (by decide) (by kernel_rfl)
      clear ho hd
      have HA : Hid (StoAt W W2.heap.size x1 M y1 (List.replicate M ⟨#[]⟩) x2 M y2 (List.replicate M ⟨#[]⟩) x3 0 y3 [] ∧ W.ownsRow W2.heap.size 4 1 (.slice x6 k k) k (bcells (List.replicate k false)) ∧ W.ownsRow W2.heap.size 3 1 (.slice x9 k k) k (icells (List.replicate k (-1)))) := ⟨hs, hbo, hio⟩
      clear hs hbo hio
      intro K hK
      simp only [List.take, putsT, put_mk, List.setIfInBounds_toArray, List.set_cons_succ, List.set_cons_zero] at hK ⊢
      rw [h1, h2, h5, h9] at hK ⊢
      clear h1 h2 h5 h9
      have HK : Hid _ := hK
      clear hK
      go_wp2_with fail
      exact HK.out _ _ (Below.refl _ _) ⟨_, _, _, _, _, _, _, _, rfl, HA.out⟩
    case g11 =>
      intro o ho vs W hb hd
      have HBW : Hid (Below w.heap.size w W) := HB2.out.trans (hb.mono HB2.out.size)
      have HS : Hid (W2.heap.size ≤ W.heap.size) := hb.size
      have HXW : Hid (Below W2.heap.size W2 W) := hb
      clear hb
      obtain rfl := Option.some.inj ho
      clear ho hd
      intro K hK
      simp only [List.take, putsT, put_mk, List.setIfInBounds_toArray, List.set_cons_succ, List.set_cons_zero] at hK ⊢
      have HK : Hid _ := hK
      clear hK
      go_wp2_with fail
      exact HK.out _ _ ((Below.refl _ _).alloc (Nat.le_refl _) _) ⟨_, rfl, HS.out, BoxN.new _ _ _⟩
  intro vs W hb hd
  have HBW : Hid (Below w.heap.size w W) := HB2.out.trans (hb.mono HB2.out.size)
  have HS : Hid (W2.heap.size ≤ W.heap.size) := hb.size
  have HXW : Hid (Below W2.heap.size W2 W) := hb
  clear hb
  simp only [List.take, List.drop, putsT, put_mk, List.setIfInBounds_toArray, List.set_cons_succ, List.set_cons_zero]
  obtain ⟨x1, y1, x2, y2, x3, y3, x6, x9, h10, hS, hBo, hIo⟩ := hd 10 (by decide)
  obtain ⟨b, h11, hbl, hBx⟩ := hd 11 (by decide)
  have h10 : vs 10 = _ := h10
  have h11 : vs 11 = _ := h11
  rw [h10, h11]
  clear h10 h11 hd HS
  have HRs : Hid (BoxN W w.heap.size 38 [.slice none 0 0, .slice none 0 0, .int .i64 0, .int .i64 0, .slice none 0 0, .slice none 0 0, .slice none 0 0, .slice none 0 0, .slice none 0 0, .slice none 0 0, .slice none 0 0]) := HQ.out _ HXW.out
  have r0 := hBx.cell 0 rfl
  have f0 := hBx.frozen 0
  have r1 := hBx.cell 1 rfl
  have f1 := hBx.frozen 1
  have r2 := hBx.cell 2 rfl
  have f2 := hBx.frozen 2
  have r3 := hBx.cell 3 rfl
  have f3 := hBx.frozen 3
  have r4 := hBx.cell 4 rfl
  have f4 := hBx.frozen 4
  have r5 := hBx.cell 5 rfl
  have f5 := hBx.frozen 5
  have r6 := hBx.cell 6 rfl
  have f6 := hBx.frozen 6
  have r7 := hBx.cell 7 rfl
  have f7 := hBx.frozen 7
  have r8 := hBx.cell 8 rfl
  have f8 := hBx.frozen 8
  have r9 := hBx.cell 9 rfl
  have f9 := hBx.frozen 9
  have r10 := hBx.cell 10 rfl
  have f10 := hBx.frozen 10
  obtain ⟨x0, hx0⟩ : ∃ x0, (((((((((((W.setCell ⟨b, 0, none⟩ (.slice x1 M y1)).setCell ⟨b, 1, none⟩ (.slice x2 M y2)).setCell ⟨b, 2, none⟩ (.int .i64 0)).setCell ⟨b, 3, none⟩ (.int .i64 0)).setCell ⟨b, 4, none⟩ (.slice x3 0 y3)).setCell ⟨b, 5, none⟩ (.slice none 0 0)).setCell ⟨b, 6, none⟩ (.slice a k c)).setCell ⟨b, 7, none⟩ (.slice x6 k k)).setCell ⟨b, 8, none⟩ (.slice none 0 0)).setCell ⟨b, 9, none⟩ (.slice none 0 0)).setCell ⟨b, 10, none⟩ (.slice x9 k k)) = x0 := ⟨_, rfl⟩
  have HE0 : Hid ((((((((((((W.setCell ⟨b, 0, none⟩ (.slice x1 M y1)).setCell ⟨b, 1, none⟩ (.slice x2 M y2)).setCell ⟨b, 2, none⟩ (.int .i64 0)).setCell ⟨b, 3, none⟩ (.int .i64 0)).setCell ⟨b, 4, none⟩ (.slice x3 0 y3)).setCell ⟨b, 5, none⟩ (.slice none 0 0)).setCell ⟨b, 6, none⟩ (.slice a k c)).setCell ⟨b, 7, none⟩ (.slice x6 k k)).setCell ⟨b, 8, none⟩ (.slice none 0 0)).setCell ⟨b, 9, none⟩ (.slice none 0 0)).setCell ⟨b, 10, none⟩ (.slice x9 k k)) = x0) := hx0
  have hk : ∀ t, t ≠ 38 → KeptE t W x0 := fun t ht => by rw [← hx0]; exact kept_eleven hBx (Ne.symm ht) _ _ _ _ _ _ _ _ _ _ _ 
  have HV : Hid (BoxN x0 b 38 [.slice x1 M y1, .slice x2 M y2, .int .i64 0, .int .i64 0, .slice x3 0 y3, .slice none 0 0, .slice a k c, .slice x6 k k, .slice none 0 0, .slice none 0 0, .slice x9 k k]) := by show BoxN _ _ _ _; rw [← hx0]; exact (((((((((((hBx.set 0 _).set 1 _).set 2 _).set 3 _).set 4 _).set 5 _).set 6 _).set 7 _).set 8 _).set 9 _).set 10 _)
  have HR0 : Hid (BoxN x0 w.heap.size 38 [.slice none 0 0, .slice none 0 0, .int .i64 0, .int .i64 0, .slice none 0 0, .slice none 0 0, .slice none 0 0, .slice none 0 0, .slice none 0 0, .slice none 0 0, .slice none 0 0]) := by
    show BoxN _ _ _ _
    rw [← hx0]
    exact (((((((((((HRs.out.other (by omega) _).other (by omega) _).other (by omega) _).other (by omega) _).other (by omega) _).other (by omega) _).other (by omega) _).other (by omega) _).other (by omega) _).other (by omega) _).other (by omega) _)
  have hbx : Below w.heap.size w x0 := by rw [← hx0]; exact (((((((((((HBW.out.setCell (by dsimp only; omega) _).setCell (by dsimp only; omega) _).setCell (by dsimp only; omega) _).setCell (by dsimp only; omega) _).setCell (by dsimp only; omega) _).setCell (by dsimp only; omega) _).setCell (by dsimp only; omega) _).setCell (by dsimp only; omega) _).setCell (by dsimp only; omega) _).setCell (by dsimp only; omega) _).setCell (by dsimp only; omega) _)
  have HB0 : Hid (Below w.heap.size w x0) := hbx
  have HS0 : Hid (StoAt x0 W2.heap.size x1 M y1 (List.replicate M ⟨#[]⟩) x2 M y2 (List.replicate M ⟨#[]⟩) x3 0 y3 []) := hS.keptE (hk _ (by decide)) (hk _ (by decide)) (hk _ (by decide))
  have HBo : Hid (x0.ownsRow W2.heap.size 4 1 (.slice x6 k k) k (bcells (List.replicate k false))) := ownsRow_keptE hBo (hk _ (by decide))
  have HIo : Hid (x0.ownsRow W2.heap.size 3 1 (.slice x9 k k) k (icells (List.replicate k (-1)))) := ownsRow_keptE hIo (hk _ (by decide))
  clear hx0 hk hbx hS hBo hIo hBx HRs HXW HBW HQ
  go_upto_region 2 with fail
  rw [HE0.out]
  clear HE0 r0 f0 r1 f1 r2 f2 r3 f3 r4 f4 r5 f5 r6 f6 r7 f7 r8 f8 r9 f9 r10 f10
  have q0 := HV.out.cell 0 rfl
  have q1 := HV.out.cell 1 rfl
  have q2 := HV.out.cell 2 rfl
  have q3 := HV.out.cell 3 rfl
  have q4 := HV.out.cell 4 rfl
  have q5 := HV.out.cell 5 rfl
  have q6 := HV.out.cell 6 rfl
  have q7 := HV.out.cell 7 rfl
  have q8 := HV.out.cell 8 rfl
  have q9 := HV.out.cell 9 rfl
  have q10 := HV.out.cell 10 rfl
  go_wp2_with fail
  refine (implWdOk_any x1 x2 x3 none a x6 none none x9 M y1 M y2 y3 0 k c k 0 0 k 0 0 0 (List.replicate M ⟨#[]⟩) (List.replicate M ⟨#[]⟩) l x0 (hs := HS0.out.low (Nat.zero_le _)) (h := (HX.out _ HB0.out).1.low (Nat.zero_le _)) (hcn := HZ.out.1) (hl := hl) (hz := HZ.out.2) (hn0 := hMb) (hn1 := hMb) (hX := fun x hx => by rw [List.eq_of_mem_replicate hx]; decide) (hq := segI_own HIo.out) (ht := (HX.out _ HB0.out).2.1) (he := (HX.out _ HB0.out).2.2)).mono ?_
  rintro _ x5 ⟨rfl, hb5⟩
  have HV5 : Hid (BoxN x5 b 38 [.slice x1 M y1, .slice x2 M y2, .int .i64 0, .int .i64 0, .slice x3 0 y3, .slice none 0 0, .slice a k c, .slice x6 k k, .slice none 0 0, .slice none 0 0, .slice x9 k k]) := HV.out.stays hb5
  have HR5 : Hid (BoxN x5 w.heap.size 38 [.slice none 0 0, .slice none 0 0, .int .i64 0, .int .i64 0, .slice none 0 0, .slice none 0 0, .slice none 0 0, .slice none 0 0, .slice none 0 0, .slice none 0 0, .slice none 0 0]) := HR0.out.stays hb5
  have HB5 : Hid (Below w.heap.size w x5) := HB0.out.trans (hb5.mono HB0.out.size)
  have HS5 : Hid (StoAt x5 W2.heap.size x1 M y1 (List.replicate M ⟨#[]⟩) x2 M y2 (List.replicate M ⟨#[]⟩) x3 0 y3 []) := HS0.out.stays hb5
  have HBo5 : Hid (x5.ownsRow W2.heap.size 4 1 (.slice x6 k k) k (bcells (List.replicate k false))) := own_below HBo.out hb5
  have HIo5 : Hid (x5.ownsRow W2.heap.size 3 1 (.slice x9 k k) k (icells (List.replicate k (-1)))) := own_below HIo.out hb5
  have hWB : wdB M (l.map CE.u) = (svB (List.replicate M ⟨#[]⟩) (List.replicate M ⟨#[]⟩) 0 0 [] [] && clsB (l.map CE.u)) := rfl
  rw [← hWB]
  clear hb5 hWB HV HR0 HB0 HS0 HBo HIo q0 q1 q2 q3 q4 q5 q6 q7 q8 q9 q10
  cases hwb : wdB M (l.map CE.u)
  case false =>
    have HW : Hid (wdM M (l.map CE.u) = 0 ∧ wdU M (l.map CE.u) = []) := wdM_no hwb
    clear hwb
    have r0 := HR5.out.cell 0 rfl
    have f0 := HR5.out.frozen 0
    have r1 := HR5.out.cell 1 rfl
    have f1 := HR5.out.frozen 1
    have r2 := HR5.out.cell 2 rfl
    have f2 := HR5.out.frozen 2
    have r3 := HR5.out.cell 3 rfl
    have f3 := HR5.out.frozen 3
    have r4 := HR5.out.cell 4 rfl
    have f4 := HR5.out.frozen 4
    have r5 := HR5.out.cell 5 rfl
    have f5 := HR5.out.frozen 5
    have r6 := HR5.out.cell 6 rfl
    have f6 := HR5.out.frozen 6
    have r7 := HR5.out.cell 7 rfl
    have f7 := HR5.out.frozen 7
    have r8 := HR5.out.cell 8 rfl
    have f8 := HR5.out.frozen 8
    have r9 := HR5.out.cell 9 rfl
    have f9 := HR5.out.frozen 9
    have r10 := HR5.out.cell 10 rfl
    have f10 := HR5.out.frozen 10
    go_wp2_with fail
    refine bodyPost_ret (v := .agg #[.slice none 0 0, .slice none 0 0, .int .i64 0, .int .i64 0, .slice none 0 0, .slice none 0 0, .slice none 0 0, .slice none 0 0, .slice none 0 0, .slice none 0 0, .slice none 0 0]) (by simp [results, Tryz.f7, go_sem, r0, r1, r2, r3, r4, r5, r6, r7, r8, r9, r10]) rfl ?_
    rw [HW.out.1, HW.out.2]
    exact ⟨⟨_, rfl, AnsWd.zero _ _⟩, (((((((((((HB5.out.setCell (by dsimp only; omega) _).setCell (by dsimp only; omega) _).setCell (by dsimp only; omega) _).setCell (by dsimp only; omega) _).setCell (by dsimp only; omega) _).setCell (by dsimp only; omega) _).setCell (by dsimp only; omega) _).setCell (by dsimp only; omega) _).setCell (by dsimp only; omega) _).setCell (by dsimp only; omega) _).setCell (by dsimp only; omega) _)⟩
  case true =>
    have HW : Hid (wdM M (l.map CE.u) = M ∧ wdU M (l.map CE.u) = l.map CE.u) := wdM_yes hwb
    clear hwb
    have q0 := HV5.out.cell 0 rfl
    have q1 := HV5.out.cell 1 rfl
    have q2 := HV5.out.cell 2 rfl
    have q3 := HV5.out.cell 3 rfl
    have q4 := HV5.out.cell 4 rfl
    have q5 := HV5.out.cell 5 rfl
    have q6 := HV5.out.cell 6 rfl
    have q7 := HV5.out.cell 7 rfl
    have q8 := HV5.out.cell 8 rfl
    have q9 := HV5.out.cell 9 rfl
    have q10 := HV5.out.cell 10 rfl
    go_wp2_with fail
    refine (implWcopy_any x1 y1 x2 y2 x3 y3 0 none 0 a c x6 k none 0 none 0 x9 k M k l x5 (HS5.out.low (Nat.zero_le _)) ((HX.out _ HB5.out).1.low (Nat.zero_le _)) HZ.out.1 (own_low HBo5.out (Nat.zero_le _)) (own_low HIo5.out (Nat.zero_le _)) hMb hl (fun e he => (HZ.out.2 e he).2)).mono ?_
    rintro _ x6' ⟨⟨v, rfl, hv⟩, hb6⟩
    obtain ⟨u1, z1, u2, z2, u3, z3, u4, z4, u5, z5, u6, z6, u7, z7, u8, z8, u9, z9, N, l2, rfl, hAt, hm, hNe⟩ := hv
    have HAt : Hid (WdAt x6' x5.heap.size M u1 z1 u2 z2 u3 z3 u5 z5 u6 z6 u9 z9 N l2) := hAt
    have HM2 : Hid (l2.map CE.u = l.map CE.u ∧ N = (l.map CE.u).length) := ⟨hm, hNe⟩
    have HB6 : Hid (Below w.heap.size w x6') := HB5.out.trans (hb6.mono HB5.out.size)
    have HR6 : Hid (BoxN x6' w.heap.size 38 [.slice none 0 0, .slice none 0 0, .int .i64 0, .int .i64 0, .slice none 0 0, .slice none 0 0, .slice none 0 0, .slice none 0 0, .slice none 0 0, .slice none 0 0, .slice none 0 0]) := HR5.out.stays hb6
    have hsz5 : w.heap.size ≤ x5.heap.size := HB5.out.size
    clear hb6 hAt hm hNe q0 q1 q2 q3 q4 q5 q6 q7 q8 q9 q10
    have r0 := HR6.out.cell 0 rfl
    have f0 := HR6.out.frozen 0
    have r1 := HR6.out.cell 1 rfl
    have f1 := HR6.out.frozen 1
    have r2 := HR6.out.cell 2 rfl
    have f2 := HR6.out.frozen 2
    have r3 := HR6.out.cell 3 rfl
    have f3 := HR6.out.frozen 3
    have r4 := HR6.out.cell 4 rfl
    have f4 := HR6.out.frozen 4
    have r5 := HR6.out.cell 5 rfl
    have f5 := HR6.out.frozen 5
    have r6 := HR6.out.cell 6 rfl
    have f6 := HR6.out.frozen 6
    have r7 := HR6.out.cell 7 rfl
    have f7 := HR6.out.frozen 7
    have r8 := HR6.out.cell 8 rfl
    have f8 := HR6.out.frozen 8
    have r9 := HR6.out.cell 9 rfl
    have f9 := HR6.out.frozen 9
    have r10 := HR6.out.cell 10 rfl
    have f10 := HR6.out.frozen 10
    go_wp2_with fail
    refine bodyPost_ret (v := .agg #[.slice u1 M z1, .slice u2 M z2, .int .i64 0, .int .i64 0, .slice u3 0 z3, .slice u4 0 z4, .slice u5 N z5, .slice u6 N z6, .slice u7 0 z7, .slice u8 0 z8, .slice u9 N z9]) (by simp [results, Tryz.f7, go_sem, r0, r1, r2, r3, r4, r5, r6, r7, r8, r9, r10]) rfl ?_
    rw [HW.out.1, HW.out.2]
    have hk : ∀ t, t ≠ 38 → KeptE t x6' (((((((((((x6'.setCell ⟨w.heap.size, 0, none⟩ (.slice u1 M z1)).setCell ⟨w.heap.size, 1, none⟩ (.slice u2 M z2)).setCell ⟨w.heap.size, 2, none⟩ (.int .i64 0)).setCell ⟨w.heap.size, 3, none⟩ (.int .i64 0)).setCell ⟨w.heap.size, 4, none⟩ (.slice u3 0 z3)).setCell ⟨w.heap.size, 5, none⟩ (.slice u4 0 z4)).setCell ⟨w.heap.size, 6, none⟩ (.slice u5 N z5)).setCell ⟨w.heap.size, 7, none⟩ (.slice u6 N z6)).setCell ⟨w.heap.size, 8, none⟩ (.slice u7 0 z7)).setCell ⟨w.heap.size, 9, none⟩ (.slice u8 0 z8)).setCell ⟨w.heap.size, 10, none⟩ (.slice u9 N z9)) := fun t ht => kept_eleven HR6.out (Ne.symm ht) _ _ _ _ _ _ _ _ _ _ _ 
    refine ⟨⟨_, rfl, u1, z1, u2, z2, u3, z3, u4, z4, u5, z5, u6, z6, u7, z7, u8, z8, u9, z9, N, l2, rfl, ?_, HM2.out.1, HM2.out.2⟩, (((((((((((HB6.out.setCell (by dsimp only; omega) _).setCell (by dsimp only; omega) _).setCell (by dsimp only; omega) _).setCell (by dsimp only; omega) _).setCell (by dsimp only; omega) _).setCell (by dsimp only; omega) _).setCell (by dsimp only; omega) _).setCell (by dsimp only; omega) _).setCell (by dsimp only; omega) _).setCell (by dsimp only; omega) _).setCell (by dsimp only; omega) _)⟩
    exact WdAt.low ⟨HAt.out.sto.keptE (hk _ (by decide)) (hk _ (by decide)) (hk _ (by decide)), HAt.out.cls.keptE (hk _ (by decide)) (hk _ (by decide)), HAt.out.len, ownsRow_keptE HAt.out.busy (hk _ (by decide)), ownsRow_keptE HAt.out.best (hk _ (by decide))⟩ (by omega)

end Go.Proofs.YtemcjenpgdieoaaGreatDoor

namespace Go.Proofs.YtemcjenpgdieoaaGreatDoor
open Go.RowKit Go.ChangeShapes Go.WideShapes
set_option linter.unusedVariables false

theorem bytes_opened {H : Type} {enc : TypeId × Value → H} {w : World} {fuel : Nat} {v : Value} {x : DataW H × List MemPlace} (h : DataW.trod enc Tryz.prog w 0 (fun _ => true) true fuel 47 [v] = some x) :
    ∃ a len cap zs, v = .slice a len cap ∧ len ≤ cap ∧ len ≤ maxLen ∧ Seg w a len zs := by
  rcases Go.Deep.open_slice1 Tryz.underlying47 (by kernel_rfl) h with ⟨hcs, _⟩ | ⟨a, len, cap, m, n, V, D, Pl, hcs, _, hl, hm, hmm, _, hc⟩
  · simp at hcs
    exact ⟨none, 0, 0, [], hcs, Nat.le_refl _, Nat.zero_le _, rfl, by simp, .inl rfl⟩
  · simp at hcs hmm
    subst hmm
    have hs : ∀ i, i < m → ∃ z : Int, V i = .int .u8 z ∧ 0 ≤ z ∧ z ≤ 255 := by
      intro i hi
      obtain ⟨_, h0⟩ := hc i hi
      obtain ⟨z, e0, _, w0⟩ := DataW.trod_int Tryz.underlying5 h0
      exact ⟨z, by simpa using e0, bounds_u8 w0⟩
    refine ⟨some a, len, m, (List.range len).map fun i => if hi : i < m then Classical.choose (hs i hi) else 0, hcs, hl, by omega, by simp, ?_, ?_⟩
    · intro z hz
      obtain ⟨i, hi, rfl⟩ := List.mem_map.1 hz
      have him : i < m := by have := List.mem_range.1 hi; omega
      rw [dif_pos him]
      exact (Classical.choose_spec (hs i him)).2
    · by_cases h0 : len = 0
      · exact .inl h0
      · right
        obtain ⟨b, off, spot⟩ := a
        have hspot : spot = none := by simpa [Addr.add] using World.cell?_spot (hc 0 (by omega)).1
        subst hspot
        have key : ∀ i (hi : i < m), w.cell? ⟨b, off + i, none⟩ = some (.int .u8 (Classical.choose (hs i hi))) := by
          intro i hi
          have hq := Classical.choose_spec (hs i hi)
          have hcc := (hc i hi).1
          rw [← hq.1]
          by_cases hi0 : i = 0
          · subst hi0
            simpa [Addr.add] using hcc
          · simpa [Addr.add, hi0] using hcc
        refine ⟨b, off, rfl, lt_of_cell (key 0 (by omega)), fun i hi => ?_⟩
        have := key i (by omega)
        rw [this]
        simp [List.getD_eq_getElem?_getD, hi, show i < m by omega]

end Go.Proofs.YtemcjenpgdieoaaGreatDoor

namespace Go.Proofs.YtemcjenpgdieoaaGreatDoor
open Go.RowKit Go.ChangeShapes Go.WideShapes Go.Joins Go.Deep
set_option linter.unusedVariables false

/-- The slice (a, n) names these clients. -/
def ClsI (w : World) (a : Option Addr) (n : Nat) (l : List CE) : Prop :=
  l.length = n ∧ (∀ e ∈ l, e.u.id.size ≤ maxLen ∧ e.n ≤ maxLen ∧ Seg w e.a e.n e.u.zs) ∧
  (n = 0 ∨ ∃ b off, a = some ⟨b, off, none⟩ ∧ b < w.heap.size ∧ ∀ i (hi : i < l.length), w.cell? ⟨b, off + i * 4, none⟩ = some (.string (l[i]).u.id) ∧ w.cell? ⟨b, off + i * 4 + 2, none⟩ = some (.int .i64 (l[i]).u.st) ∧ w.cell? ⟨b, off + i * 4 + 1, none⟩ = some (.slice (l[i]).a (l[i]).n (l[i]).c) ∧ w.cell? ⟨b, off + i * 4 + 3, none⟩ = some (.int .i64 (l[i]).u.off))

theorem ClsI.below {w w' : World} {a : Option Addr} {n : Nat} {l : List CE} (h : ClsI w a n l) (hb : Below w.heap.size w w') : ClsI w' a n l := by
  obtain ⟨h1, h2, h3⟩ := h
  refine ⟨h1, fun e he => ⟨(h2 e he).1, (h2 e he).2.1, (h2 e he).2.2.below hb⟩, ?_⟩
  rcases h3 with h3 | ⟨b, off, rfl, hlt, hc⟩
  · exact .inl h3
  · refine .inr ⟨b, off, rfl, Nat.lt_of_lt_of_le hlt hb.size, fun i hi => ?_⟩
    obtain ⟨c0, c1, c2, c3⟩ := hc i hi
    exact ⟨(hb.cell (p := ⟨b, _, none⟩) hlt).trans c0, (hb.cell (p := ⟨b, _, none⟩) hlt).trans c1, (hb.cell (p := ⟨b, _, none⟩) hlt).trans c2, (hb.cell (p := ⟨b, _, none⟩) hlt).trans c3⟩

theorem ClsI.at {w : World} {a : Option Addr} {n : Nat} {l : List CE} (h : ClsI w a n l) {i : Nat} (hi : i < l.length) :
    ∃ b off, a = some ⟨b, off, none⟩ ∧ b < w.heap.size ∧ w.cell? ⟨b, off + i * 4, none⟩ = some (.string (l[i]).u.id) ∧ w.cell? ⟨b, off + i * 4 + 2, none⟩ = some (.int .i64 (l[i]).u.st) ∧ w.cell? ⟨b, off + i * 4 + 1, none⟩ = some (.slice (l[i]).a (l[i]).n (l[i]).c) ∧ w.cell? ⟨b, off + i * 4 + 3, none⟩ = some (.int .i64 (l[i]).u.off) := by
  obtain ⟨h1, h2, h3⟩ := h
  rcases h3 with h3 | ⟨b, off, rfl, hlt, hc⟩
  · omega
  · exact ⟨b, off, rfl, hlt, hc i hi⟩

set_option maxRecDepth 100000 in
theorem cl_cells {H : Type} {enc : TypeId × Value → H} {w : World} {n : Nat} {cs : List Value} {x : DataW H × List MemPlace} (h : DataW.trod enc Tryz.prog w 0 (fun _ => true) true n 49 cs = some x) :
    ∃ e : CE, cs = e.cells ∧ e.u.id.size ≤ maxLen ∧ e.n ≤ maxLen ∧ Seg w e.a e.n e.u.zs := by
  obtain ⟨xs, m, _, _, hl, hlen, hg⟩ := DataW.trod_struct Tryz.underlying49 h
  have hC : Tryz.prog.cellsOf 49 = 4 := by kernel_rfl
  rw [hC] at hl
  have k3 : Tryz.prog.cellsOf 3 = 1 := by kernel_rfl
  have k9 : Tryz.prog.cellsOf 9 = 1 := by kernel_rfl
  have kb : Tryz.prog.cellsOf 47 = 1 := by kernel_rfl
  match xs, hlen, cs, hl with
  | [y0, y1, y2, y3], _, [v0, v1, v2, v3], _ =>
    have g0 := hg 0 _ rfl
    have g1 := hg 1 _ rfl
    have g2 := hg 2 _ rfl
    have g3 := hg 3 _ rfl
    simp [k3, k9, kb] at g0 g1 g2 g3
    obtain ⟨s, e0, _, z0⟩ := DataW.trod_string Tryz.underlying9 g0
    obtain ⟨i, e2, _, _⟩ := DataW.trod_int Tryz.underlying3 g2
    obtain ⟨b, e3, _, _⟩ := DataW.trod_int Tryz.underlying3 g3
    obtain ⟨a, len, cap, zs, e1, _, hlm, hs⟩ := bytes_opened g1
    refine ⟨⟨⟨s, i, zs, b⟩, a, len, cap⟩, ?_, z0, hlm, hs⟩
    simp only [List.cons.injEq, and_true] at e0 e2 e3
    rw [CE.cells, e0, e1, e2, e3]

theorem ClsI.opened {H : Type} {enc : TypeId × Value → H} {w : World} {fuel : Nat} {v : Value} {x : DataW H × List MemPlace} (h : DataW.trod enc Tryz.prog w 0 (fun _ => true) true fuel 22 [v] = some x) :
    ∃ a len cap l, v = .slice a len cap ∧ len ≤ maxLen ∧ ClsI w a len l := by
  rcases Go.Deep.open_slice Tryz.underlying22 h with ⟨hcs, _⟩ | ⟨a, len, cap, m, n, D, Pl, hcs, _, hl, hm, hmm, _, hc⟩
  · simp at hcs
    exact ⟨none, 0, 0, [], hcs, Nat.zero_le _, rfl, by simp, .inl rfl⟩
  · simp at hcs hmm
    subst hmm
    have hC : Tryz.prog.cellsOf 49 = 4 := by kernel_rfl
    rw [hC] at hc
    have hs : ∀ i, i < m → ∃ e : CE, (w.cell? (a.add (i * 4)) = some (.string e.u.id) ∧ w.cell? (a.add (i * 4 + 2)) = some (.int .i64 e.u.st) ∧ w.cell? (a.add (i * 4 + 1)) = some (.slice e.a e.n e.c) ∧ w.cell? (a.add (i * 4 + 3)) = some (.int .i64 e.u.off)) ∧ e.u.id.size ≤ maxLen ∧ e.n ≤ maxLen ∧ Seg w e.a e.n e.u.zs := by
      intro i hi
      obtain ⟨cs', h1, h2⟩ := hc i hi
      obtain ⟨e, rfl, r⟩ := cl_cells h2
      obtain ⟨_, hlen, hcell⟩ := World.cells?_some h1
      have e0 := hcell 0 (by omega)
      have e1 := hcell 1 (by omega)
      have e2 := hcell 2 (by omega)
      have e3 := hcell 3 (by omega)
      rw [Go.Deep.add_add] at e0 e1 e2 e3
      exact ⟨e, ⟨by simpa [CE.cells] using e0, by simpa [CE.cells] using e2, by simpa [CE.cells] using e1, by simpa [CE.cells] using e3⟩, r⟩
    refine ⟨some a, len, m, (List.range len).map fun i => if hi : i < m then Classical.choose (hs i hi) else ⟨⟨⟨#[]⟩, 0, [], 0⟩, none, 0, 0⟩, hcs, by omega, by simp, ?_, ?_⟩
    · intro f hf
      obtain ⟨i, hi, rfl⟩ := List.mem_map.1 hf
      have him : i < m := by have := List.mem_range.1 hi; omega
      rw [dif_pos him]
      exact (Classical.choose_spec (hs i him)).2
    · by_cases h0 : len = 0
      · exact .inl h0
      · right
        obtain ⟨b, off, spot⟩ := a
        have hspot : spot = none := by simpa [Addr.add] using World.cell?_spot (Classical.choose_spec (hs 0 (by omega))).1.1
        subst hspot
        have key : ∀ i (hi : i < m), w.cell? ⟨b, off + i * 4, none⟩ = some (.string (Classical.choose (hs i hi)).u.id) ∧ w.cell? ⟨b, off + i * 4 + 2, none⟩ = some (.int .i64 (Classical.choose (hs i hi)).u.st) ∧ w.cell? ⟨b, off + i * 4 + 1, none⟩ = some (.slice (Classical.choose (hs i hi)).a (Classical.choose (hs i hi)).n (Classical.choose (hs i hi)).c) ∧ w.cell? ⟨b, off + i * 4 + 3, none⟩ = some (.int .i64 (Classical.choose (hs i hi)).u.off) := by
          intro i hi
          obtain ⟨⟨q0, q1, q2, q3⟩, _⟩ := Classical.choose_spec (hs i hi)
          generalize Classical.choose (hs i hi) = e at *
          refine ⟨?_, ?_, ?_, ?_⟩
          · by_cases hi0 : i = 0
            · subst hi0
              simpa [Addr.add] using q0
            · simpa [Addr.add, show ¬ i * 4 = 0 by omega] using q0
          · simpa [Addr.add, Nat.add_assoc] using q1
          · simpa [Addr.add, Nat.add_assoc] using q2
          · simpa [Addr.add, Nat.add_assoc] using q3
        refine ⟨b, off, rfl, lt_of_cell (key 0 (by omega)).1, fun i hi => ?_⟩
        have hil : i < len := by simpa using hi
        have := key i (by omega)
        simpa [show i < m by omega] using this

end Go.Proofs.YtemcjenpgdieoaaGreatDoor
