/- The comparison of bytes that the laws call. For slices of at most 2^40 bytes. What the functions that the laws call do to the world: the copy of bytes. Each for slices of at most 2^40 bytes. What the laws' own functions do with a list of records: the size. Variables of three cells. No program in it. -/
import Derived.Test.YtogopmngbjkcjatDoorRows
import Derived.Test.YtogopmngbjkcjatDoorM01
import Derived.Deep.QuietTactic
import Derived.BigQuiet
import Derived.Test.YtogopmngbjkcjatDoorM03
import Derived.Test.YtogopmngbjkcjatDoorM02
namespace Go.Proofs.YtogopmngbjkcjatDoor
open Go.RowKit
set_option linter.unusedVariables false

set_option maxHeartbeats 400000 in
theorem eqByteS_same (a b : Option Addr) (len ca cb : Nat) (xs : List Int) (w : World) (hx : Seg w a len xs) (hy : Seg w b len xs) (hla : len ≤ 1099511627776) :
    Calls Tryd.prog 68 #[.slice a len ca, .slice b len cb] w fun e w' => e = .returned (.bool true) ∧ ∃ n, w' = w.drewN n := by
  have HX : Hid (Seg w a len xs) := hx
  have HY : Hid (Seg w b len xs) := hy
  clear hx hy
  have hne : ((len : Int) != (len : Int)) = false := by simp
  go_enter Tryd.func68, Tryd.ntmps68
  go_wp2
  go_loopw [5] (fun i wr => ∃ k : Nat, k ≤ len ∧ i = .int .i64 k ∧ Hid (∃ n, wr = w.drewN n)) (fun i _ => len - (intOf i).toNat)
  case atStart => exact ⟨0, Nat.zero_le _, rfl, ⟨0, rfl⟩⟩
  case round =>
    obtain ⟨k, hk, rfl, HW⟩ := hrel
    by_cases hlt : k < len
    · obtain ⟨ba, oa, rfl, hba, hca⟩ : ∃ b off, a = some ⟨b, off, none⟩ ∧ b < w.heap.size ∧ ∀ i, i < len → w.cell? ⟨b, off + i, none⟩ = some (.int .u8 (xs.getD i 0)) := by
        rcases HX.out.2.2 with h | h
        · omega
        · exact h
      obtain ⟨bb, ob, rfl, hbb, hcb⟩ : ∃ b' off, b = some ⟨b', off, none⟩ ∧ b' < w.heap.size ∧ ∀ i, i < len → w.cell? ⟨b', off + i, none⟩ = some (.int .u8 (xs.getD i 0)) := by
        rcases HY.out.2.2 with h | h
        · omega
        · exact h
      have ha : wr.cell? ⟨ba, oa + k, none⟩ = some (.int .u8 (xs.getD k 0)) := by obtain ⟨n, rfl⟩ := HW; exact hca k hlt
      have hb : wr.cell? ⟨bb, ob + k, none⟩ = some (.int .u8 (xs.getD k 0)) := by obtain ⟨n, rfl⟩ := HW; exact hcb k hlt
      clear hca hcb
      have hki : (k : Int) < (len : Int) := by omega
      have hk0 : (0 : Int) ≤ (k : Int) := by omega
      go_wp2
      go_quiet (fail)
      go_wp2
      go_roundw
      case rel =>
        refine ⟨k + 1, by omega, by go_num, ?_⟩
        obtain ⟨n, rfl⟩ := HW.out
        exact ⟨_, World.drewN_drewN _ _ _⟩
      case measure => simp [intOf]; omega
    · go_wp2
      go_ret
      exact ⟨rfl, HW.out⟩

end Go.Proofs.YtogopmngbjkcjatDoor

namespace Go.Proofs.YtogopmngbjkcjatDoor
open Go.RowKit
set_option linter.unusedVariables false

set_option maxHeartbeats 400000 in
theorem toByteS_any (a : Option Addr) (len cap : Nat) (zs : List Int) (w : World) (hs : Seg w a len zs) (hl : len ≤ 1099511627776) :
    Calls Tryd.prog 61 #[.slice a len cap] w fun e w' => e = .returned (.slice (some ⟨w.heap.size, 0, none⟩) len len) ∧
      w'.ownsRow w.heap.size 5 1 (.slice (some ⟨w.heap.size, 0, none⟩) len len) len (zs.map (Value.int .u8)) ∧ Below w.heap.size w w' := by
  obtain ⟨i0, hi, hz0, hz1, hz2⟩ := info_parts Tryd.info5
  have hzs : zs.length = len := hs.1
  have HS : Hid (Seg w a len zs) := hs
  clear hs
  go_enter Tryd.func61, Tryd.ntmps61
  go_wp2_with (at_make; refine wpList_make_full _ rfl _ _ 54 rfl w.heap.size 5 i0 (.int .u8 0) 1 Tryd.underlying54 hi hz0 hz1 _ _ _ _ len rfl rfl rfl rfl (by rw [hz2]; omega) (by unfold maxLen; omega) (Nat.le_refl _) ?_; intro w1 hown hgrow)
  have hrow : w1.ownsRow w.heap.size 5 1 (.slice (some ⟨w.heap.size, 0, none⟩) len len) len ((zs.take 0 ++ List.replicate (len - 0) 0).map (Value.int .u8)) := by
    simpa [toList_madeCells_one, Value.cells] using hown
  have hbel : Below w.heap.size w w1 := (Below.refl _ _).grown hgrow (Nat.le_refl _) (by simp)
  have HR := (show Hid _ from hrow)
  have HB := (show Hid _ from hbel)
  clear hown hgrow hrow hbel
  go_loopw [4] (fun i wr => ∃ k : Nat, k ≤ len ∧ i = .int .i64 k ∧ Hid (wr.ownsRow w.heap.size 5 1 (.slice (some ⟨w.heap.size, 0, none⟩) len len) len ((zs.take k ++ List.replicate (len - k) 0).map (Value.int .u8))) ∧ Hid (Below w.heap.size w wr)) (fun i _ => len - (intOf i).toNat)
  case atStart => exact ⟨0, Nat.zero_le _, rfl, HR, HB⟩
  case round =>
    clear HR HB
    obtain ⟨k, hk, rfl, HO, HB⟩ := hrel
    by_cases hlt : k < len
    · obtain ⟨b, off, rfl, hb, hc⟩ : ∃ b off, a = some ⟨b, off, none⟩ ∧ b < w.heap.size ∧ ∀ i, i < len → w.cell? ⟨b, off + i, none⟩ = some (.int .u8 (zs.getD i 0)) := by
        rcases HS.out.2.2 with h | h
        · omega
        · exact h
      have hcell : wr.cell? ⟨b, off + k, none⟩ = some (.int .u8 (zs.getD k 0)) := (HB.out.cell (p := ⟨b, off + k, none⟩) hb).trans (hc k hlt)
      have hfro : wr.frozen? ⟨w.heap.size, k, none⟩ = false := HO.out.frozenAt k
      obtain ⟨u, hu⟩ : ∃ u, wr.cell? ⟨w.heap.size, k, none⟩ = some u := by
        rw [HO.out.cellAt k (by omega)]
        exact ⟨_, List.getElem?_eq_getElem (by simp; omega)⟩
      clear hc
      go_wp2
      go_roundw
      case rel => 
        refine ⟨k + 1, by omega, by go_num, ?_, ?_⟩
        · have h := (HO.out.stored k (.int .u8 (zs.getD k 0))).1
          rw [copied_step zs k len hlt hzs] at h
          have hkz : k < zs.length := by omega
          show World.ownsRow _ _ _ _ _ _ _
          simpa [hkz] using h
        · exact HB.out.setCell (Nat.le_refl _) _
      case measure => simp [intOf]; omega
    · go_wp2
      go_ret
      have hkl : k = len := by omega
      subst hkl
      refine ⟨rfl, ?_, HB.out⟩
      have h := HO.out
      rw [List.take_of_length_le (by omega)] at h
      simpa using h

end Go.Proofs.YtogopmngbjkcjatDoor

namespace Go.Proofs.YtogopmngbjkcjatDoor
open Go.RowKit
set_option linter.unusedVariables false

set_option maxRecDepth 10000 in
set_option maxHeartbeats 800000 in
theorem szRecL_any (x : RE) (m : Int) (w : World) (hn : 0 ≤ m) (hn2 : m ≤ 1048576) (hi : x.r.id.size ≤ maxLen) (hl : x.n ≤ maxLen) :
    Calls Tryd.prog 30 #[.agg #[.int .i64 x.r.e, .int .i64 x.r.q, .int .i64 x.r.k, .string x.r.id, .int .i64 x.r.n, .slice x.a x.n x.c], .int .i64 m] w fun r w' => (∃ L : Int, r = .returned (.int .i64 L) ∧ (L < 0 ∨ (x.r.id.size ≤ 1048576 ∧ x.n ≤ 1048576 ∧ 0 ≤ L ∧ L ≤ m))) ∧ Below w.heap.size w w' := by
  have hm : maxLen < 9223372036854775808 := by decide
  have HB : Hid (Below w.heap.size w (w.alloc (.cells #[.int .i64 x.r.e, .int .i64 x.r.q, .int .i64 x.r.k, .string x.r.id, .int .i64 x.r.n, .slice x.a x.n x.c] 62))) := (Below.refl _ _).alloc (Nat.le_refl _) _
  by_cases h1 : m - (x.r.id.size : Int) < 0
  · go_enter Tryd.func30, Tryd.ntmps30
    go_wp2_with fail
    go_ret
    exact ⟨⟨-1, rfl, .inl (by omega)⟩, HB.out⟩
  by_cases h2 : m - (x.r.id.size : Int) - (x.n : Int) < 0
  · go_enter Tryd.func30, Tryd.ntmps30
    go_wp2
    go_ret
    exact ⟨⟨-1, rfl, .inl (by omega)⟩, HB.out⟩
  · go_enter Tryd.func30, Tryd.ntmps30
    go_wp2
    go_ret
    exact ⟨⟨m - (x.r.id.size : Int) - (x.n : Int), rfl, .inr ⟨by omega, by omega, by omega, by omega⟩⟩, HB.out⟩

/-- How great records may be. -/
def SzR (n : Nat) (l : List RE) : Prop := n ≤ 1048576 ∧ ∀ e ∈ l, e.r.id.size ≤ 1048576 ∧ e.n ≤ 1048576

set_option maxRecDepth 10000 in
set_option maxHeartbeats 800000 in
theorem szRecS_any (a : Option Addr) (n c : Nat) (l : List RE) (m : Int) (w : World) (hx : RcsI w a n l) (hk : ∀ e ∈ l, e.r.id.size ≤ maxLen ∧ e.n ≤ maxLen) (hn : 0 ≤ m) (hn2 : m ≤ 1048576) (hl : n ≤ maxLen) :
    Calls Tryd.prog 11 #[.slice a n c, .int .i64 m] w fun e w' => (∃ L : Int, e = .returned (.int .i64 L) ∧ (L < 0 ∨ (SzR n l ∧ 0 ≤ L ∧ L ≤ m))) ∧ Below w.heap.size w w' := by
  have HX : Hid (RcsI w a n l) := hx
  have HK : Hid (∀ e ∈ l, e.r.id.size ≤ maxLen ∧ e.n ≤ maxLen) := hk
  clear hx hk
  have hm : maxLen < 9223372036854775808 := by decide
  by_cases h0 : m - n < 0
  · go_enter Tryd.func11, Tryd.ntmps11
    go_wp2
    go_ret
    exact ⟨⟨-1, rfl, .inl (by omega)⟩, Below.refl _ _⟩
  · go_enter Tryd.func11, Tryd.ntmps11
    go_wp2
    go_loopw [1, 5] (fun v i wr => ∃ (k : Nat) (u : Int), k ≤ n ∧ i = .int .i64 k ∧ v = .int .i64 u ∧ 0 ≤ u ∧ u ≤ m ∧ Hid (∀ j (hj : j < l.length), j < k → (l[j]).r.id.size ≤ 1048576 ∧ (l[j]).n ≤ 1048576) ∧ Hid (Below w.heap.size w wr)) (fun _ i _ => n - (intOf i).toNat)
    case atStart => exact ⟨0, m - n, Nat.zero_le _, rfl, rfl, by omega, by omega, fun j _ hj => absurd hj (Nat.not_lt_zero _), Below.refl _ _⟩
    case round =>
      obtain ⟨k, u, hk, rfl, rfl, hu, hum, HJ, HW⟩ := hrel
      by_cases hlt : k < n
      · have hkl : k < l.length := by rw [HX.out.1]; exact hlt
        obtain ⟨b, off, rfl, g0, g1, g2, g3, g4, g5⟩ := (HX.out.below HW.out).at hkl
        have hsz := HK.out (l[k]) (List.getElem_mem hkl)
        have HJ2 : Hid ((l[k]).r.id.size ≤ 1048576 ∧ (l[k]).n ≤ 1048576 → ∀ j (hj : j < l.length), j < k + 1 → (l[j]).r.id.size ≤ 1048576 ∧ (l[j]).n ≤ 1048576) := fun h j hj hjk => by
          by_cases e : j = k
          · subst e; exact h
          · exact HJ.out j hj (by omega)
        have hs1 := hsz.1
        have hs2 := hsz.2
        clear hsz HJ
        have hki : (k : Int) < (n : Int) := by omega
        have hk0 : (0 : Int) ≤ (k : Int) := by omega
        have hu2 : u ≤ 1048576 := by omega
        generalize l[k] = x at *
        go_wp2_with fail
        refine (szRecL_any x u _ hu hu2 hs1 hs2).mono ?_
        rintro e x3 ⟨⟨L, rfl, hL⟩, hb3⟩
        have HB3 : Hid (Below w.heap.size w x3) := HW.out.trans (hb3.mono HW.out.size)
        have HL : Hid (L < 0 ∨ (x.r.id.size ≤ 1048576 ∧ x.n ≤ 1048576 ∧ 0 ≤ L ∧ L ≤ u)) := hL
        clear hb3 hL g0 g1 g2 g3 g4 g5
        by_cases hneg : L < 0
        · go_wp2
          go_ret
          exact ⟨⟨-1, rfl, .inl (by omega)⟩, HB3.out⟩
        · have h4 : x.r.id.size ≤ 1048576 ∧ x.n ≤ 1048576 ∧ 0 ≤ L ∧ L ≤ u := by
            rcases HL.out with h | h
            · exact absurd h hneg
            · exact h
          have HJ3 := HJ2.out ⟨h4.1, h4.2.1⟩
          have hL2 : L ≤ u := h4.2.2.2
          clear h4
          have HJ4 : Hid (∀ j (hj : j < l.length), j < k + 1 → (l[j]).r.id.size ≤ 1048576 ∧ (l[j]).n ≤ 1048576) := HJ3
          clear HJ3
          go_wp2
          go_roundw
          case rel => exact ⟨k + 1, L, by omega, by go_num, rfl, by omega, by omega, HJ4, HB3⟩
          case measure => simp [intOf]; omega
      · have HS : Hid (SzR n l) := ⟨by omega, fun e he => by
          obtain ⟨j, hj, rfl⟩ := List.getElem_of_mem he
          exact HJ.out j hj (by have := HX.out.1; omega)⟩
        clear HJ
        go_wp2
        go_ret
        exact ⟨⟨u, rfl, .inr ⟨HS.out, hu, hum⟩⟩, HW.out⟩

end Go.Proofs.YtogopmngbjkcjatDoor

namespace Go.Proofs.YtogopmngbjkcjatDoor
open Go.RowKit
set_option linter.unusedVariables false

/-- A variable of three cells. -/
def Box3 (W : World) (b : Nat) (t : TypeId) (x y z : Value) : Prop := W.heap[b]? = some (.cells #[x, y, z] t (0, 0))

theorem Box3.lt {W : World} {b : Nat} {t : TypeId} {x y z : Value} (h : Box3 W b t x y z) : b < W.heap.size := (Array.getElem?_eq_some_iff.1 h).1

theorem Box3.stays {W W' : World} {b : Nat} {t : TypeId} {x y z : Value} (h : Box3 W b t x y z) (hb : Below W.heap.size W W') : Box3 W' b t x y z := (hb.block b h.lt).trans h

theorem Box3.alloc {W : World} {b : Nat} {t : TypeId} {x y z : Value} (h : Box3 W b t x y z) (o : Obj) : Box3 (W.alloc o) b t x y z := by
  have hl := h.lt
  show (W.heap.push o)[b]? = _
  rw [Array.getElem?_push, if_neg (by omega)]
  exact h

theorem Box3.new (W : World) (t : TypeId) (x y z : Value) : Box3 (W.alloc (.cells #[x, y, z] t)) W.heap.size t x y z := heap_alloc_new W _

theorem Box3.cells {W : World} {b : Nat} {t : TypeId} {x y z : Value} (h : Box3 W b t x y z) : W.cell? ⟨b, 0, none⟩ = some x ∧ W.cell? ⟨b, 1, none⟩ = some y ∧ W.cell? ⟨b, 2, none⟩ = some z := by
  refine ⟨?_, ?_, ?_⟩ <;> (rw [cell_of_row _ _ _ _ _ _ h]; rfl)

theorem Box3.frozen {W : World} {b : Nat} {t : TypeId} {x y z : Value} (h : Box3 W b t x y z) (i : Nat) : W.frozen? ⟨b, i, none⟩ = false := by simp [World.frozen?, show W.heap[b]? = _ from h]

theorem Box3.grown {W W' : World} {b : Nat} {t : TypeId} {x y z : Value} {r : Option Nat} (h : Box3 W b t x y z) (hg : W.grownBy W' r) (hr : r ≠ some b) : Box3 W' b t x y z := (hg.block b h.lt (Ne.symm hr)).trans h

end Go.Proofs.YtogopmngbjkcjatDoor
