/- What the functions that the laws call do to the world: the copy of bytes, their comparison. Each for slices of at most 2^40 bytes. What the marks do: a row of the call's own is written over with 1, 2, .., and read again; nothing else is written. For rows of at most 2^41 bytes. What the walk of PutField keeps. -/
import Derived.Test.YtghakpcagacdaalRows
import Derived.Test.YtghakpcagacdaalM01
import Derived.Deep.QuietTactic
import Derived.BigQuiet
import Derived.Test.YtghakpcagacdaalM30
import Derived.Test.YtghakpcagacdaalM44
import Derived.Test.YtghakpcagacdaalM45
namespace Go.Proofs.Ytghakpcagacdaal
open Go.RowKit
set_option linter.unusedVariables false

set_option maxHeartbeats 400000 in
theorem toByteS_any (a : Option Addr) (len cap : Nat) (zs : List Int) (w : World) (hs : Seg w a len zs) (hl : len ≤ 1099511627776) :
    Calls Try.prog 10 #[.slice a len cap] w fun e w' => e = .returned (.slice (some ⟨w.heap.size, 0, none⟩) len len) ∧
      w'.ownsRow w.heap.size 5 1 (.slice (some ⟨w.heap.size, 0, none⟩) len len) len (zs.map (Value.int .u8)) ∧ Below w.heap.size w w' := by
  obtain ⟨i0, hi, hz0, hz1, hz2⟩ := info_parts Try.info5
  have hzs : zs.length = len := hs.1
  have HS : Hid (Seg w a len zs) := hs
  clear hs
  go_enter Try.func10, Try.ntmps10
  go_wp2_with (at_make; refine wpList_make_full _ rfl _ _ 22 rfl w.heap.size 5 i0 (.int .u8 0) 1 Try.underlying22 hi hz0 hz1 _ _ _ _ len rfl rfl rfl rfl (by rw [hz2]; omega) (by unfold maxLen; omega) (Nat.le_refl _) ?_; intro w1 hown hgrow)
  have hrow : w1.ownsRow w.heap.size 5 1 (.slice (some ⟨w.heap.size, 0, none⟩) len len) len ((zs.take 0 ++ List.replicate (len - 0) 0).map (Value.int .u8)) := by
    simpa [toList_madeCells_one, Value.cells] using hown
  have hbel : Below w.heap.size w w1 := (Below.refl _ _).grown hgrow (Nat.le_refl _) (by simp)
  have HR := (show Hid _ from hrow)
  have HB := (show Hid _ from hbel)
  clear hown hgrow hrow hbel
  go_loopw [4] (fun i wr => ∃ k : Nat, k ≤ len ∧ i = .int .i64 k ∧ Hid (wr.ownsRow w.heap.size 5 1 (.slice (some ⟨w.heap.size, 0, none⟩) len len) len ((zs.take k ++ List.replicate (len - k) 0).map (Value.int .u8))) ∧ Hid (Below w.heap.size w wr)) (fun i _ => len - (intOf i).toNat)
  case atStart => exact ⟨0, Nat.zero_le _, rfl, HR, HB⟩
  case round =>
    clear HR HB
    obtain ⟨k, hk, rfl, HO, HB⟩ := hrel
    by_cases hlt : k < len
    · obtain ⟨b, off, rfl, hb, hc⟩ : ∃ b off, a = some ⟨b, off, none⟩ ∧ b < w.heap.size ∧ ∀ i, i < len → w.cell? ⟨b, off + i, none⟩ = some (.int .u8 (zs.getD i 0)) := by
        rcases HS.out.2.2 with h | h
        · omega
        · exact h
      have hcell : wr.cell? ⟨b, off + k, none⟩ = some (.int .u8 (zs.getD k 0)) := (HB.out.cell (p := ⟨b, off + k, none⟩) hb).trans (hc k hlt)
      have hfro : wr.frozen? ⟨w.heap.size, k, none⟩ = false := HO.out.frozenAt k
      obtain ⟨u, hu⟩ : ∃ u, wr.cell? ⟨w.heap.size, k, none⟩ = some u := by
        rw [HO.out.cellAt k (by omega)]
        exact ⟨_, List.getElem?_eq_getElem (by simp; omega)⟩
      clear hc
      go_wp2
      go_roundw
      case rel => 
        refine ⟨k + 1, by omega, by go_num, ?_, ?_⟩
        · have h := (HO.out.stored k (.int .u8 (zs.getD k 0))).1
          rw [copied_step zs k len hlt hzs] at h
          have hkz : k < zs.length := by omega
          show World.ownsRow _ _ _ _ _ _ _
          simpa [hkz] using h
        · exact HB.out.setCell (Nat.le_refl _) _
      case measure => simp [intOf]; omega
    · go_wp2
      go_ret
      have hkl : k = len := by omega
      subst hkl
      refine ⟨rfl, ?_, HB.out⟩
      have h := HO.out
      rw [List.take_of_length_le (by omega)] at h
      simpa using h

set_option maxHeartbeats 400000 in
theorem eqByteS_same (a b : Option Addr) (len ca cb : Nat) (xs : List Int) (w : World) (hx : Seg w a len xs) (hy : Seg w b len xs) (hla : len ≤ 1099511627776) :
    Calls Try.prog 12 #[.slice a len ca, .slice b len cb] w fun e w' => e = .returned (.bool true) ∧ ∃ n, w' = w.drewN n := by
  have HX : Hid (Seg w a len xs) := hx
  have HY : Hid (Seg w b len xs) := hy
  clear hx hy
  have hne : ((len : Int) != (len : Int)) = false := by simp
  go_enter Try.func12, Try.ntmps12
  go_wp2
  go_loopw [5] (fun i wr => ∃ k : Nat, k ≤ len ∧ i = .int .i64 k ∧ Hid (∃ n, wr = w.drewN n)) (fun i _ => len - (intOf i).toNat)
  case atStart => exact ⟨0, Nat.zero_le _, rfl, ⟨0, rfl⟩⟩
  case round =>
    obtain ⟨k, hk, rfl, HW⟩ := hrel
    by_cases hlt : k < len
    · obtain ⟨ba, oa, rfl, hba, hca⟩ : ∃ b off, a = some ⟨b, off, none⟩ ∧ b < w.heap.size ∧ ∀ i, i < len → w.cell? ⟨b, off + i, none⟩ = some (.int .u8 (xs.getD i 0)) := by
        rcases HX.out.2.2 with h | h
        · omega
        · exact h
      obtain ⟨bb, ob, rfl, hbb, hcb⟩ : ∃ b' off, b = some ⟨b', off, none⟩ ∧ b' < w.heap.size ∧ ∀ i, i < len → w.cell? ⟨b', off + i, none⟩ = some (.int .u8 (xs.getD i 0)) := by
        rcases HY.out.2.2 with h | h
        · omega
        · exact h
      have ha : wr.cell? ⟨ba, oa + k, none⟩ = some (.int .u8 (xs.getD k 0)) := by obtain ⟨n, rfl⟩ := HW; exact hca k hlt
      have hb : wr.cell? ⟨bb, ob + k, none⟩ = some (.int .u8 (xs.getD k 0)) := by obtain ⟨n, rfl⟩ := HW; exact hcb k hlt
      clear hca hcb
      have hki : (k : Int) < (len : Int) := by omega
      have hk0 : (0 : Int) ≤ (k : Int) := by omega
      go_wp2
      go_quiet (fail)
      go_wp2
      go_roundw
      case rel =>
        refine ⟨k + 1, by omega, by go_num, ?_⟩
        obtain ⟨n, rfl⟩ := HW.out
        exact ⟨_, World.drewN_drewN _ _ _⟩
      case measure => simp [intOf]; omega
    · go_wp2
      go_ret
      exact ⟨rfl, HW.out⟩

end Go.Proofs.Ytghakpcagacdaal

namespace Go.Proofs.Ytghakpcagacdaal
open Go.RowKit
set_option linter.unusedVariables false

/-- The marks: n bytes from k on. -/
def marks (k n : Nat) : List Int := (List.range n).map fun i => ((k + i : Nat) : Int) % 256

theorem marks_range (k n : Nat) : ∀ x ∈ marks k n, 0 ≤ x ∧ x ≤ 255 := by
  intro x hx
  simp only [marks, List.mem_map] at hx
  obtain ⟨i, _, rfl⟩ := hx
  omega

theorem marked_step (k : Nat) (zs : List Int) (j : Nat) (h : j < zs.length) :
    ((marks k j ++ zs.drop j).map (Value.int .u8)).set j (.int .u8 (((k + j : Nat) : Int) % 256)) = (marks k (j + 1) ++ zs.drop (j + 1)).map (Value.int .u8) := by
  have hl : (marks k j).length = j := by simp [marks]
  have hd : zs.drop j = zs[j] :: zs.drop (j + 1) := List.drop_eq_getElem_cons h
  have hm : marks k (j + 1) = marks k j ++ [((k + j : Nat) : Int) % 256] := by simp [marks, List.range_succ]
  rw [hd, hm, List.map_append, List.set_append_right _ _ (by simp [hl]), List.length_map, hl, Nat.sub_self, List.map_cons, List.set_cons_zero]
  rw [List.map_append, List.map_append, List.append_assoc]
  rfl

theorem marks_len (k n : Nat) : (marks k n).length = n := by simp [marks]

theorem marks_get (k n j : Nat) (h : j < n) : (marks k n).getD j 0 = ((k : Int) + (j : Int)) % 256 := by
  rw [List.getD_eq_getElem?_getD, List.getElem?_eq_getElem (by simpa [marks] using h)]
  simp [marks]

set_option maxHeartbeats 400000 in
theorem mark_any (base : Nat) (a : Option Addr) (n cap k : Nat) (zs : List Int) (w : World) (h : Owns w base a n cap zs) (hn : n ≤ 2199023255552) (hk : k ≤ 2199023255552) :
    Calls Try.prog 13 #[.slice a n cap, .int .i64 k] w fun e w' => e = .returned (.int .i64 ((k + n : Nat) : Int)) ∧ Owns w' base a n cap (marks k n) ∧ Only w w' a := by
  have hzl : zs.length = n := h.seg.1
  have HO : Hid (Owns w base a n cap zs) := h
  clear h
  go_enter Try.func13, Try.ntmps13
  go_wp2
  go_loopw [1, 5] (fun v i wr => ∃ j : Nat, j ≤ n ∧ i = .int .i64 j ∧ v = .int .i64 ((k + j : Nat) : Int) ∧ Hid (Owns wr base a n cap (marks k j ++ zs.drop j)) ∧ Hid (Only w wr a)) (fun _ i _ => n - (intOf i).toNat)
  case atStart => exact ⟨0, Nat.zero_le _, rfl, by go_num, by simpa [marks, Hid] using HO.out, ⟨rfl, rfl, rfl, Nat.le_refl _, fun _ _ _ => rfl⟩⟩
  case round =>
    clear HO
    obtain ⟨j, hj, rfl, rfl, HO, HB⟩ := hrel
    by_cases hlt : j < n
    · obtain ⟨g, rfl, hf, ⟨u, hu⟩⟩ : ∃ g, a = some ⟨g, 0, none⟩ ∧ wr.frozen? ⟨g, j, none⟩ = false ∧ ∃ u, wr.cell? ⟨g, j, none⟩ = some u := by
        rcases HO.out.1.2 with ⟨he, hn0⟩ | ⟨g, cap', cur, he, _⟩
        · omega
        · simp only [Value.slice.injEq] at he
          obtain ⟨rfl, _, rfl⟩ := he
          refine ⟨g, rfl, HO.out.1.frozenAt j, ?_⟩
          rw [HO.out.1.cellAt j (by omega)]
          exact ⟨_, List.getElem?_eq_getElem (by have := HO.out.1.1; omega)⟩
      go_wp2
      go_roundw
      case rel =>
        refine ⟨j + 1, by omega, by go_num, by go_num, ?_, ?_⟩
        · have h := (HO.out.1.stored j (.int .u8 (((k + j : Nat) : Int) % 256))).1
          rw [marked_step k zs j (by omega)] at h
          refine ⟨by simpa using h, ?_⟩
          intro x hx
          rcases List.mem_append.1 hx with hx | hx
          · exact marks_range _ _ x hx
          · exact HO.out.2 x (List.mem_append_right _ (by
              rw [List.drop_eq_getElem_cons (by omega)]
              exact List.mem_cons_of_mem _ hx))
        · have h := (HO.out.1.stored j (.int .u8 (((k : Int) + (j : Int)) % 256))).2
          have hB := HB.out
          exact ⟨h.os.trans hB.os, h.tape.trans hB.tape, h.output.trans hB.output, Nat.le_trans hB.size h.size, fun i hi hne => (h.block i (Nat.lt_of_lt_of_le hi hB.size) hne).trans (hB.block i hi hne)⟩
      case measure => simp [intOf]; omega
    · go_wp2
      go_ret
      have hjn : j = n := by omega
      subst hjn
      refine ⟨ret_int (by omega), ?_, HB.out⟩
      have h := HO.out
      rw [List.drop_of_length_le (by omega), List.append_nil] at h
      exact h

set_option maxHeartbeats 400000 in
theorem held_any (base : Nat) (a : Option Addr) (n cap k : Nat) (w : World) (h : Owns w base a n cap (marks k n)) (hn : n ≤ 2199023255552) (hk : k ≤ 2199023255552) :
    Calls Try.prog 14 #[.slice a n cap, .int .i64 k] w fun e w' => e = .returned (.int .i64 ((k + n : Nat) : Int)) ∧ w' = w := by
  have HS : Hid (Seg w a n (marks k n)) := h.seg
  clear h
  go_enter Try.func14, Try.ntmps14
  go_wp2
  go_loop [1, 5] (fun v i => ∃ j : Nat, j ≤ n ∧ i = .int .i64 j ∧ v = .int .i64 ((k + j : Nat) : Int)) (fun _ i => n - (intOf i).toNat)
  case atStart => exact ⟨0, Nat.zero_le _, rfl, by go_num⟩
  case round =>
    obtain ⟨j, hj, rfl, rfl⟩ := hrel
    by_cases hlt : j < n
    · obtain ⟨b, off, rfl, hc⟩ : ∃ b off, a = some ⟨b, off, none⟩ ∧ w.cell? ⟨b, off + j, none⟩ = some (.int .u8 (((k : Int) + (j : Int)) % 256)) := by
        rcases HS.out.2.2 with h | ⟨b, off, e1, _, hc⟩
        · omega
        · exact ⟨b, off, e1, by rw [hc j hlt, marks_get k n j hlt]⟩
      go_wp2
      go_round
      case rel => exact ⟨j + 1, by omega, by go_num, by go_num⟩
      case measure => simp [intOf]; omega
    · go_wp2
      go_ret
      have hjn : j = n := by omega
      subst hjn
      exact ⟨ret_int (by omega), rfl⟩

theorem mark_one (base : Nat) (a : Option Addr) (n cap : Nat) (zs : List Int) (w : World) (h : Owns w base a n cap zs) (hn : n ≤ 2199023255552) :
    Calls Try.prog 13 #[.slice a n cap, .int .i64 1] w fun e w' => e = .returned (.int .i64 ((1 + n : Nat) : Int)) ∧ Owns w' base a n cap (marks 1 n) ∧ Only w w' a := mark_any base a n cap 1 zs w h hn (by omega)

theorem held_one (base : Nat) (a : Option Addr) (n cap : Nat) (w : World) (h : Owns w base a n cap (marks 1 n)) (hn : n ≤ 2199023255552) :
    Calls Try.prog 14 #[.slice a n cap, .int .i64 1] w fun e w' => e = .returned (.int .i64 ((1 + n : Nat) : Int)) ∧ w' = w := held_any base a n cap 1 w h hn (by omega)

end Go.Proofs.Ytghakpcagacdaal

namespace Go.Proofs.Ytghakpcagacdaal
open Go.RowKit
set_option linter.unusedVariables false

set_option maxHeartbeats 400000 in
theorem markTk_any (base : Nat) (m : Int) (a : Option Addr) (n cap k : Nat) (xs : List Fld) (w : World) (h : OwnF w base (.slice a n cap) n xs) (hn : n ≤ 1099511627776) (hk : k ≤ 1099511627776) :
    Calls Try.prog 24 #[.agg #[.int .i64 m, .slice a n cap], .int .i64 (k : Int)] w fun e w' => e = .returned (.int .i64 ((k + 2 * n : Nat) : Int)) ∧ OwnF w' base (.slice a n cap) n (marksF k n) ∧ w.grownBy w' (a.map (·.block)) := by
  have HO : Hid (OwnF w base (.slice a n cap) n xs) := h
  clear h
  have HB : Hid (Below w.heap.size w (w.alloc (.cells #[.int .i64 m, .slice a n cap] 40))) := (Below.refl _ _).alloc (Nat.le_refl _) _
  have HO1 : Hid (OwnF (w.alloc (.cells #[.int .i64 m, .slice a n cap] 40)) base (.slice a n cap) n xs) := ⟨own_stays HO.out.1 HB.out, HO.out.2⟩
  go_enter Try.func24, Try.ntmps24
  go_wp2_with fail
  refine (markFS_any base a n cap k xs _ HO1.out hn hk).mono ?_
  rintro e x1 ⟨rfl, ho, hg⟩
  have HO2 : Hid (OwnF x1 base (.slice a n cap) n (marksF k n)) := ho
  have HG2 : Hid (w.grownBy x1 (a.map (·.block))) := grown_trans (grown_below HB.out) hg
  clear ho hg
  obtain ⟨q, hq⟩ : ∃ q, k + 2 * n = q := ⟨_, rfl⟩
  have HQ : Hid (k + 2 * n = q) := hq
  rw [hq]
  clear hq
  go_wp2_with fail
  go_ret
  exact ⟨ret_int (by rw [HQ.out]), HO2.out, HG2.out⟩

set_option maxHeartbeats 400000 in
theorem heldTk_any (m : Int) (a : Option Addr) (n cap k : Nat) (w : World) (h : Flds w a n (marksF k n)) (hn : n ≤ 1099511627776) (hk : k ≤ 1099511627776) :
    Calls Try.prog 25 #[.agg #[.int .i64 m, .slice a n cap], .int .i64 (k : Int)] w fun e w' => e = .returned (.int .i64 ((k + 2 * n : Nat) : Int)) ∧ Below w.heap.size w w' := by
  have HX : Hid (Flds w a n (marksF k n)) := h
  clear h
  have HB : Hid (Below w.heap.size w (w.alloc (.cells #[.int .i64 m, .slice a n cap] 40))) := (Below.refl _ _).alloc (Nat.le_refl _) _
  go_enter Try.func25, Try.ntmps25
  go_wp2_with fail
  refine (heldFS_any a n cap k _ (HX.out.below HB.out) hn hk).mono ?_
  rintro e x1 ⟨rfl, hb1⟩
  have HB1 : Hid (Below w.heap.size w x1) := HB.out.trans (hb1.mono HB.out.size)
  clear hb1
  have hpos : ¬ ((k + 2 * n : Nat) : Int) < 0 := by omega
  have hposd : decide (((k + 2 * n : Nat) : Int) < 0) = false := by simp; omega
  obtain ⟨q, hq⟩ : ∃ q, k + 2 * n = q := ⟨_, rfl⟩
  have HQ : Hid (k + 2 * n = q) := hq
  rw [hq] at hpos hposd ⊢
  clear hq
  go_wp2_with fail
  go_ret
  exact ⟨ret_int (by rw [HQ.out]), HB1.out⟩

theorem PutAns.short {m : Int} {xs : List Fld} {x y : ByteArray} {mode : Int} {q : List Int} {ys : List Fld} (h : PutAns m xs x y mode q ys) : ys.length ≤ xs.length + 1 ∧ q.length ≤ x.size + y.size + 18 := by
  rcases h with ⟨_, i, b, _, h2, h3⟩ | ⟨_, rfl, rfl⟩
  · refine ⟨?_, h2.len⟩
    rcases h3 with ⟨_, _, h⟩ | ⟨_, rfl⟩
    · exact h.short
    · omega
  · simp

/-- What the call was given, in variables of the law's. -/
def KP (w W : World) (m : Int) (a0 : Option Addr) (len0 cap0 : Nat) (x y : ByteArray) : Prop :=
  Below w.heap.size w W ∧ Box2 W w.heap.size 33 (.int .i64 m) (.slice a0 len0 cap0) ∧ Box2 W (w.heap.size + 1) 35 (.string x) (.string y)

theorem KP.stays {w W W' : World} {m : Int} {a0 : Option Addr} {len0 cap0 : Nat} {x y : ByteArray} (h : KP w W m a0 len0 cap0 x y) (hb : Below W.heap.size W W') : KP w W' m a0 len0 cap0 x y :=
  ⟨h.1.trans (hb.mono h.1.size), h.2.1.stays hb, h.2.2.stays hb⟩

theorem KP.grown {w W W' : World} {m : Int} {a0 : Option Addr} {len0 cap0 : Nat} {x y : ByteArray} {r : Option Nat} (h : KP w W m a0 len0 cap0 x y) (hg : W.grownBy W' r) (hr : ∀ k, r = some k → w.heap.size + 1 < k) : KP w W' m a0 len0 cap0 x y :=
  ⟨h.1.grown hg h.1.size (fun k e => by have := hr k e; omega), h.2.1.grown hg (fun e => by have := hr _ e; omega), h.2.2.grown hg (fun e => by have := hr _ e; omega)⟩

/-- An answer: a table in a variable, bytes. -/
def AP (W : World) (s : Nat) (m : Int) (b : Nat) (a : Option Addr) (k c : Nat) (ys : List Fld) (qa : Option Addr) (ql qc : Nat) (q : List Int) : Prop :=
  Box2 W b 40 (.int .i64 m) (.slice a k c) ∧ OwnF W s (.slice a k c) k ys ∧ Owns W s qa ql qc q

theorem AP.stays {W W' : World} {s : Nat} {m : Int} {b : Nat} {a : Option Addr} {k c : Nat} {ys : List Fld} {qa : Option Addr} {ql qc : Nat} {q : List Int} (h : AP W s m b a k c ys qa ql qc q) (hb : Below W.heap.size W W') : AP W' s m b a k c ys qa ql qc q :=
  ⟨h.1.stays hb, h.2.1.stays hb, h.2.2.below hb⟩

theorem owns_kept {W W' : World} {s n c : Nat} {a : Option Addr} {zs : List Int} {r : Option Nat} (h : Owns W s a n c zs) (hg : W.grownBy W' r) (hr : ∀ k, r = some k → a.map (·.block) ≠ some k) : Owns W' s a n c zs := by
  refine ⟨h.1.kept hg ?_, h.2⟩
  rw [ownBlock_slice]
  cases e : a.map (·.block) with
  | none => exact .inl rfl
  | some k => exact .inr (fun h => hr k h.symm e)

theorem ownF_kept {W W' : World} {s n c : Nat} {a : Option Addr} {ys : List Fld} {r : Option Nat} (h : OwnF W s (.slice a n c) n ys) (hg : W.grownBy W' r) (hr : ∀ k, r = some k → a.map (·.block) ≠ some k) : OwnF W' s (.slice a n c) n ys := by
  refine h.grown hg ?_
  rw [ownBlock_slice]
  cases e : a.map (·.block) with
  | none => exact .inl rfl
  | some k => exact .inr (fun h => hr k h.symm e)

theorem AP.grown {W W' : World} {s : Nat} {m : Int} {b : Nat} {a : Option Addr} {k c : Nat} {ys : List Fld} {qa : Option Addr} {ql qc : Nat} {q : List Int} {r : Option Nat} (h : AP W s m b a k c ys qa ql qc q) (hg : W.grownBy W' r)
    (h1 : r ≠ some b) (h2 : ∀ k, r = some k → a.map (·.block) ≠ some k) (h3 : ∀ k, r = some k → qa.map (·.block) ≠ some k) : AP W' s m b a k c ys qa ql qc q :=
  ⟨h.1.grown hg h1, ownF_kept h.2.1 hg h2, owns_kept h.2.2 hg h3⟩

/-- Where an answer lies. -/
def Low (L : Nat) (b : Nat) (a qa : Option Addr) : Prop := b < L ∧ (∀ k, a.map (·.block) = some k → k < L) ∧ (∀ k, qa.map (·.block) = some k → k < L)

theorem AP.low {W : World} {s : Nat} {m : Int} {b : Nat} {a : Option Addr} {k c : Nat} {ys : List Fld} {qa : Option Addr} {ql qc : Nat} {q : List Int} (h : AP W s m b a k c ys qa ql qc q) : Low W.heap.size b a qa :=
  ⟨h.1.lt, fun k e => (h.2.1.lt k (by rw [ownBlock_slice]; exact e)).2, fun k e => (h.2.2.lt k e).2⟩

theorem AP.above {W W' : World} {L s : Nat} {m : Int} {b : Nat} {a : Option Addr} {k c : Nat} {ys : List Fld} {qa : Option Addr} {ql qc : Nat} {q : List Int} {r : Option Nat} (h : AP W s m b a k c ys qa ql qc q) (hL : Low L b a qa) (hg : W.grownBy W' r)
    (hr : ∀ k, r = some k → L ≤ k) : AP W' s m b a k c ys qa ql qc q :=
  h.grown hg (fun e => by have h1 := hr _ e; have h2 := hL.1; omega) (fun k e e2 => by have h1 := hr _ e; have h2 := hL.2.1 _ e2; omega) (fun k e e2 => by have h1 := hr _ e; have h2 := hL.2.2 _ e2; omega)

/-- Rows of two kinds are two. -/
theorem rows_apart {W : World} {b1 b2 s1 s2 n1 n2 : Nat} {e1 e2 : TypeId} {v1 v2 : Value} {xs1 xs2 : List Value} (h1 : W.ownsRow b1 e1 s1 v1 n1 xs1) (h2 : W.ownsRow b2 e2 s2 v2 n2 xs2) (hne : e1 ≠ e2) : ∀ k, v1.ownBlock = some k → v2.ownBlock ≠ some k := by
  intro k hk
  rcases h1.2 with ⟨rfl, _⟩ | ⟨g, c, cur, rfl, _, hg, _⟩
  · cases hk
  · obtain rfl : g = k := by simpa [Value.ownBlock] using hk
    exact own_other' h2 hg hne

theorem put_boxB {X Y : World} {b base n ql qc : Nat} {v : Value} {ys : List Fld} {qa : Option Addr} {q : List Int} (hb : Below X.heap.size X Y) (hX : X.heap.size ≤ b) (hq : Box2 Y b 40 (.int .i64 0) (.slice none 0 0)) (hlt : b < base) (ho : OwnF Y base v n ys) (hoq : Owns Y base qa ql qc q) (m : Int) :
    Below X.heap.size X ((Y.setCell ⟨b, 0, none⟩ (.int .i64 m)).setCell ⟨b, 1, none⟩ v) ∧ Box2 ((Y.setCell ⟨b, 0, none⟩ (.int .i64 m)).setCell ⟨b, 1, none⟩ v) b 40 (.int .i64 m) v ∧ OwnF ((Y.setCell ⟨b, 0, none⟩ (.int .i64 m)).setCell ⟨b, 1, none⟩ v) X.heap.size v n ys ∧ Owns ((Y.setCell ⟨b, 0, none⟩ (.int .i64 m)).setCell ⟨b, 1, none⟩ v) X.heap.size qa ql qc q := by
  obtain ⟨h1, h2, h3⟩ := put_box hb hX hq hlt ho m
  exact ⟨h1, h2, h3, own_lower (ownsRow_setCell_below (ownsRow_setCell_below hoq.1 (a := ⟨b, 0, none⟩) hlt _) (a := ⟨b, 1, none⟩) hlt _) (by omega), hoq.2⟩

theorem put_newB {X Y : World} {base n ql qc : Nat} {v : Value} {ys : List Fld} {qa : Option Addr} {q : List Int} (hb : Below X.heap.size X Y) (hX : X.heap.size ≤ base) (ho : OwnF Y base v n ys) (hoq : Owns Y base qa ql qc q) (m : Int) :
    Below X.heap.size X (Y.alloc (.cells #[.int .i64 m, v] 40)) ∧ Box2 (Y.alloc (.cells #[.int .i64 m, v] 40)) Y.heap.size 40 (.int .i64 m) v ∧ OwnF (Y.alloc (.cells #[.int .i64 m, v] 40)) X.heap.size v n ys ∧ Owns (Y.alloc (.cells #[.int .i64 m, v] 40)) X.heap.size qa ql qc q := by
  obtain ⟨h1, h2, h3⟩ := put_new hb hX ho m
  exact ⟨h1, h2, h3, own_lower (hoq.below ((Below.refl _ _).alloc (Nat.le_refl _) _)).1 hX, hoq.2⟩

end Go.Proofs.Ytghakpcagacdaal
