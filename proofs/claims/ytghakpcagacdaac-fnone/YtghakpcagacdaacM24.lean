/- The specification's SizeOf. The specification's table without its oldest, as far as must be. The specification's field that is put into a table. Tables that are drawn. For codes of at most 2^40 bytes. The draw of a table that is right and of fields. For codes of at most 2^40 bytes. -/
import Derived.Test.YtghakpcagacdaacM07
import Derived.Test.YtghakpcagacdaacM11
import Derived.Deep.RegionWith
import Derived.Laws.Tables
import Derived.Test.YtghakpcagacdaacM12
import Derived.Shelf.Abstract
import Derived.Test.YtghakpcagacdaacM23
import Derived.Test.YtghakpcagacdaacM20
namespace Go.Proofs.Ytghakpcagacdaac
open Go.RowKit
set_option linter.unusedVariables false

set_option maxHeartbeats 400000 in
theorem specOf4_any (x y : ByteArray) (w : World) (hx : x.size + y.size ≤ 2097152) : Calls Try.prog 81 #[.agg #[.string x, .string y]] w fun e w' => e = .returned (.int .i64 (x.size + y.size + 32)) ∧ Below w.heap.size w w' := by
  go_enter Try.func81, Try.ntmps81
  go_wp2
  go_ret
  exact ⟨rfl, (Below.refl _ _).alloc (Nat.le_refl _) _⟩

set_option maxHeartbeats 400000 in
theorem specSize_any (m : Int) (a : Option Addr) (len ca : Nat) (xs : List Fld) (w : World) (hx : Flds w a len xs) (hl : len + fldBytes xs ≤ 2097152) :
    Calls Try.prog 51 #[.agg #[.int .i64 m, .slice a len ca]] w fun e w' => e = .returned (.int .i64 (32 * len + fldBytes xs)) ∧ Below w.heap.size w w' := by
  have HX : Hid (Flds w a len xs) := hx
  clear hx
  go_enter Try.func51, Try.ntmps51
  go_wp2
  generalize hw1 : w.alloc (Obj.cells #[Value.int IntKind.i64 m, Value.slice a len ca] 26) = w1
  have hb1 : Below w.heap.size w w1 := by rw [← hw1]; exact (Below.refl _ _).alloc (Nat.le_refl _) _
  have hs1 : w1.heap.size = w.heap.size + 1 := by rw [← hw1]; simp
  have HC0 : Hid (w1.cell? ⟨w.heap.size, 0, none⟩ = some (.int .i64 m)) := by show _ = _; rw [← hw1]; simp [go_sem]
  have HC1 : Hid (w1.cell? ⟨w.heap.size, 1, none⟩ = some (.slice a len ca)) := by show _ = _; rw [← hw1]; simp [go_sem]
  have HB1 : Hid (Below w.heap.size w w1) := hb1
  have HS1 : Hid (w1.heap.size = w.heap.size + 1) := hs1
  clear hw1 hb1 hs1
  go_loopw [3, 4] (fun v i wr => ∃ (k : Nat) (u : Int), k ≤ len ∧ i = .int .i64 k ∧ v = .int .i64 u ∧ 0 ≤ u ∧ u ≤ 80000000 ∧ Hid (u = 32 * k + fldBytes (xs.take k)) ∧ Hid (Below w1.heap.size w1 wr)) (fun _ i _ => len - (intOf i).toNat)
  case atStart => exact ⟨0, 0, Nat.zero_le _, rfl, rfl, by omega, by omega, by show _ = _; simp [fldBytes], Below.refl _ _⟩
  case round =>
    obtain ⟨k, u, hk, rfl, rfl, hu0, hu1, HU, HW⟩ := hrel
    have g1 : wr.cell? ⟨w.heap.size, 1, none⟩ = some (.slice a len ca) := (HW.out.cell (p := ⟨_, _, none⟩) (by have := HS1.out; dsimp only; omega)).trans HC1.out
    by_cases hlt : k < len
    · obtain ⟨ba, oa, x, y, rfl, hba, hfa, ha0, ha1⟩ := HX.out.at hlt
      have hbw : Below w.heap.size w wr := HB1.out.trans (HW.out.mono HB1.out.size)
      have ga0 : wr.cell? ⟨ba, oa + k * 2, none⟩ = some (.string x) := (hbw.cell (p := ⟨ba, _, none⟩) hba).trans ha0
      have ga1 : wr.cell? ⟨ba, oa + k * 2 + 1, none⟩ = some (.string y) := (hbw.cell (p := ⟨ba, _, none⟩) hba).trans ha1
      have hst := fldBytes_step xs k x y hfa
      have hle := fldBytes_take xs (k + 1)
      have hxy : x.size + y.size ≤ 2097152 := by omega
      have HF : Hid (fldBytes (xs.take (k + 1)) = fldBytes (xs.take k) + (x.size + y.size) ∧ fldBytes (xs.take (k + 1)) ≤ fldBytes xs) := ⟨hst, hle⟩
      clear hfa ha0 ha1 hst hle hbw
      have hki : (k : Int) < (len : Int) := by omega
      have hk0 : (0 : Int) ≤ (k : Int) := by omega
      go_wp2_with fail
      refine (specOf4_any x y _ hxy).mono ?_
      rintro e x3 ⟨rfl, hb3⟩
      have HB3 : Hid (Below w1.heap.size w1 x3) := HW.out.trans (hb3.mono HW.out.size)
      clear hb3
      go_wp2
      go_roundw
      case rel =>
        have h1 := HU.out
        have h2 := HF.out
        exact ⟨k + 1, _, by omega, by go_num, rfl, by omega, by omega, by show _ = _; omega, HB3⟩
      case measure => simp [intOf]; omega
    · go_wp2
      go_ret
      have hkl : k = len := by omega
      have h3 := HU.out
      have h4 := HX.out.1
      rw [List.take_of_length_le (by omega)] at h3
      exact ⟨ret_int (by omega), HB1.out.trans (HW.out.mono HB1.out.size)⟩

end Go.Proofs.Ytghakpcagacdaac

namespace Go.Proofs.Ytghakpcagacdaac
open Go.RowKit
set_option linter.unusedVariables false

/-- The length of the slice in the second cell of a variable. -/
def lenIn (b : Nat) (W : World) : Nat := match W.cell? ⟨b, 1, none⟩ with | some (.slice _ n _) => n | _ => 0

set_option maxRecDepth 10000 in
set_option maxHeartbeats 1600000 in
theorem specFit_any (m : Int) (a : Option Addr) (len ca : Nat) (xs : List Fld) (w : World) (hx : Flds w a len xs) (hm : 0 ≤ m) (hm2 : m ≤ 4096) (hc : len ≤ ca) (hl : len + fldBytes xs ≤ 2097152) :
    Calls Try.prog 83 #[.agg #[.int .i64 m, .slice a len ca]] w fun e w' => ∃ k, e = .returned (.agg #[.int .i64 m, .slice a k ca]) ∧ FitN m.toNat xs k ∧ Below w.heap.size w w' := by
  have HX : Hid (Flds w a len xs) := hx
  have hlen := hx.1
  clear hx
  go_enter Try.func83, Try.ntmps83
  go_wp2_with fail
  obtain ⟨w2, hw2⟩ : ∃ w2, (w.alloc (.cells #[.int .i64 m, .slice a len ca] 26)).alloc (.cells #[.int .i64 0, .slice none 0 0] 26) = w2 := ⟨_, rfl⟩
  have hq1 : w2.heap[w.heap.size]? = some (.cells #[.int .i64 m, .slice a len ca] 26 (0, 0)) := by
    rw [← hw2]
    have h1 := heap_alloc_new w (.cells #[.int .i64 m, .slice a len ca] 26)
    have hlt : w.heap.size < (w.alloc (.cells #[.int .i64 m, .slice a len ca] 26)).heap.size := by simp
    exact (((Below.refl _ _).alloc (Nat.le_refl _) (.cells #[.int .i64 0, .slice none 0 0] 26)).block _ hlt).trans h1
  have hq2 : w2.heap[w.heap.size + 1]? = some (.cells #[.int .i64 0, .slice none 0 0] 26 (0, 0)) := by
    rw [← hw2]
    have h1 := heap_alloc_new (w.alloc (.cells #[.int .i64 m, .slice a len ca] 26)) (.cells #[.int .i64 0, .slice none 0 0] 26)
    simpa using h1
  have HB2 : Hid (Below w.heap.size w w2) := by show Below _ _ _; rw [← hw2]; exact ((Below.refl _ _).alloc (Nat.le_refl _) _).alloc (by simp) _
  have HQ1 : Hid (w2.heap[w.heap.size]? = some (.cells #[.int .i64 m, .slice a len ca] 26 (0, 0))) := hq1
  have HQ2 : Hid (w2.heap[w.heap.size + 1]? = some (.cells #[.int .i64 0, .slice none 0 0] 26 (0, 0))) := hq2
  rw [hw2]
  clear hw2 hq1 hq2
  obtain ⟨h, hh⟩ : ∃ h, w.heap.size = h := ⟨_, rfl⟩
  rw [hh] at HB2 HQ1 HQ2 ⊢
  go_loopw [] (fun wr => ∃ k, k ≤ len ∧ Hid (k = len ∨ m.toNat < szL (xs.take (k + 1))) ∧ Hid (wr.heap[h]? = some (.cells #[.int .i64 m, .slice a k ca] 26 (0, 0))) ∧ Hid (wr.heap[h + 1]? = some (.cells #[.int .i64 0, .slice none 0 0] 26 (0, 0))) ∧ Hid (Below h w wr)) (fun wr => lenIn h wr)
  case atStart => exact ⟨len, Nat.le_refl _, .inl rfl, HQ1, HQ2, HB2⟩
  case round =>
    clear HQ1 HQ2 HB2
    obtain ⟨k, hk, HE, HQ1, HQ2, HB⟩ := hrel
    obtain ⟨c0, c1, f0, f1⟩ := two_cells HQ1.out
    have HC1 : Hid (wr.cell? ⟨h, 1, none⟩ = some (.slice a k ca)) := c1
    have HFk : Hid (Flds wr a k (xs.take k)) := (HX.out.below (by rw [hh]; exact HB.out)).take k hk
    have hsz : 32 * k + fldBytes (xs.take k) = szL (xs.take k) := by
      unfold szL
      rw [List.length_take, Nat.min_eq_left (by omega)]
    have hfb := fldBytes_take xs k
    have hlk : k + fldBytes (xs.take k) ≤ 2097152 := by omega
    have HSz : Hid (32 * k + fldBytes (xs.take k) = szL (xs.take k)) := hsz
    have hsm : 32 * (k : Int) + (fldBytes (xs.take k) : Int) ≤ 70000000 := by omega
    have HSp : Hid (∀ W, Flds W a k (xs.take k) → Calls Try.prog 51 #[.agg #[.int .i64 m, .slice a k ca]] W fun e w' => e = .returned (.int .i64 (32 * (k : Int) + (fldBytes (xs.take k) : Int))) ∧ Below W.heap.size W w') := fun W hW => specSize_any m a k ca (xs.take k) W hW hlk
    generalize fldBytes (xs.take k) = fb at *
    clear hsz hfb
    have hh1 : h < wr.heap.size := (Array.getElem?_eq_some_iff.1 HQ1.out).1
    have HT : Hid (∀ W : World, Below wr.heap.size wr W → W.heap[h]? = some (.cells #[.int .i64 m, .slice a k ca] 26 (0, 0)) ∧ W.heap[h + 1]? = some (.cells #[.int .i64 0, .slice none 0 0] 26 (0, 0)) ∧ Below h w W) := fun W hW =>
      ⟨(hW.block h hh1).trans HQ1.out, (hW.block (h + 1) (Array.getElem?_eq_some_iff.1 HQ2.out).1).trans HQ2.out, HB.out.trans (hW.mono (by omega))⟩
    go_wp2_with fail
    go_region_with (first
      | (go_at_call 51; refine (HSp.out _ (HFk.out.below (Below.refl _ _).drew)).mono ?_; rintro e x2 ⟨rfl, hb2⟩; have hb2' : Below wr.heap.size wr x2 := (Below.refl wr.heap.size wr).drew.trans (hb2.mono (Nat.le_refl _)); obtain ⟨k0, k1, k2, k3⟩ := two_cells (HT.out _ hb2').1))
    all_goals
      obtain ⟨t1, t2, t3⟩ := HT.out _ hb2'
      have HQ1' : Hid (x2.heap[h]? = some (.cells #[.int .i64 m, .slice a k ca] 26 (0, 0))) := t1
      have HQ2' : Hid (x2.heap[h + 1]? = some (.cells #[.int .i64 0, .slice none 0 0] 26 (0, 0))) := t2
      have HB' : Hid (Below h w x2) := t3
      clear t1 t2 t3 hb2 hb2' c0 c1 f0 f1
      by_cases hgt : m < 32 * (k : Int) + (fb : Int)
      · obtain ⟨j, rfl⟩ : ∃ j, k = j + 1 := by
          refine ⟨k - 1, ?_⟩
          rcases Nat.eq_zero_or_pos k with hk0 | hk0
          · exfalso
            subst hk0
            have := HSz.out
            rw [List.take_zero, szL_nil] at this
            omega
          · omega
        have HE2 : Hid (j = len ∨ m.toNat < szL (xs.take (j + 1))) := by
          show _ ∨ _
          right
          have := HSz.out
          omega
        have hj : ((j + 1 : Nat) : Int) - 1 = (j : Int) := by omega
        have hji : (j : Int) ≤ (ca : Int) := by omega
        go_wp2_with fail
        go_roundw
        case rel => exact ⟨j, by omega, HE2, two_set1 HQ1'.out _, (set_block_other _ _ _ _ _ (by omega)).trans HQ2'.out, HB'.out.setCell (p := ⟨h, 1, none⟩) (Nat.le_refl _) _⟩
        case measure =>
          have e1 : lenIn h wr = j + 1 := by simp [lenIn, HC1.out]
          have e2 := (two_cells (two_set1 HQ1'.out (.slice a j ca))).2.1
          have e3 : lenIn h (x2.setCell ⟨h, 1, none⟩ (.slice a j ca)) = j := by simp [lenIn, e2]
          omega
      · have HFit : Hid (FitN m.toNat xs k) := by
          refine ⟨by omega, ?_, ?_⟩
          · have := HSz.out
            omega
          · rw [hlen]
            exact HE.out
        obtain ⟨g0, g1, g2, g3⟩ := two_cells HQ2'.out
        go_wp2_with fail
        refine bodyPost_ret (v := .agg #[.int .i64 m, .slice a k ca]) (by simp [results, Try.f83, go_sem, g0, g1]) rfl ?_
        refine ⟨k, rfl, HFit.out, ?_⟩
        first
          | exact (HB'.out.setCell (p := ⟨h + 1, 0, none⟩) (by dsimp only; omega) _).setCell (p := ⟨h + 1, 1, none⟩) (by dsimp only; omega) _
          | (rw [hh]; exact (HB'.out.setCell (p := ⟨h + 1, 0, none⟩) (by dsimp only; omega) _).setCell (p := ⟨h + 1, 1, none⟩) (by dsimp only; omega) _)

end Go.Proofs.Ytghakpcagacdaac

namespace Go.Proofs.Ytghakpcagacdaac
open Go.RowKit
set_option linter.unusedVariables false

set_option maxRecDepth 10000 in
set_option maxHeartbeats 6400000 in
theorem specAdd4_any (m : Int) (a : Option Addr) (len ca : Nat) (xs : List Fld) (x y : ByteArray) (w : World) (hx : Flds w a len xs) (hm : 0 ≤ m) (hm2 : m ≤ 4096) (hf : x.size ≤ maxLen ∧ y.size ≤ maxLen) (hl : 1 + len + (x.size + y.size) + fldBytes xs ≤ 2097152) :
    Calls Try.prog 66 #[.agg #[.int .i64 m, .slice a len ca], .agg #[.string x, .string y]] w fun e w' => ∃ v k, e = .returned (.agg #[.int .i64 m, v]) ∧ FitN m.toNat ((x, y) :: xs) k ∧ OwnF w' w.heap.size v k (((x, y) :: xs).take k) ∧ Below w.heap.size w w' := by
  obtain ⟨i0, hi, hz0, hz1, hz2⟩ := info_parts info_field
  have HX : Hid (Flds w a len xs) := hx
  have hlen := hx.1
  have HNil : Hid (a = none → len = 0) := fun h => hx.none_nil h
  clear hx
  have HA : Hid (1 + len ≤ maxLen ∧ (1 + len) * 32 ≤ 140737488355328 ∧ (fieldCells xs).length = len * 2) := ⟨by unfold maxLen; omega, by omega, by rw [fieldCells_len]; omega⟩
  have HFl : Hid (∀ f ∈ (x, y) :: xs, f.1.size ≤ maxLen ∧ f.2.size ≤ maxLen) := by
    intro f hf'
    rcases List.mem_cons.1 hf' with rfl | h
    · exact hf
    · exact HX.out.2.1 f h
  have HSz : Hid (1 + len + fldBytes ((x, y) :: xs) ≤ 2097152) := by
    show _ ≤ _
    simp [fldBytes] at hl ⊢
    omega
  clear hf hl
  go_enter Try.func66, Try.ntmps66
  go_wp2_with fail
  obtain ⟨w3, hw3⟩ : ∃ w3, ((w.alloc (.cells #[.int .i64 m, .slice a len ca] 26)).alloc (.cells #[.string x, .string y] 36)).alloc (.cells #[.int .i64 0, .slice none 0 0] 26) = w3 := ⟨_, rfl⟩
  have hq1 : w3.heap[w.heap.size]? = some (.cells #[.int .i64 m, .slice a len ca] 26 (0, 0)) := by
    rw [← hw3]
    exact kept_alloc (kept_alloc (heap_alloc_new w _) _) _
  have hq2 : w3.heap[w.heap.size + 1]? = some (.cells #[.string x, .string y] 36 (0, 0)) := by
    rw [← hw3]
    have h1 := kept_alloc (heap_alloc_new (w.alloc (.cells #[.int .i64 m, .slice a len ca] 26)) (.cells #[.string x, .string y] 36)) (.cells #[.int .i64 0, .slice none 0 0] 26)
    rw [World.size_alloc] at h1
    exact h1
  have hq3 : w3.heap[w.heap.size + 1 + 1]? = some (.cells #[.int .i64 0, .slice none 0 0] 26 (0, 0)) := by
    rw [← hw3]
    have h1 := heap_alloc_new ((w.alloc (.cells #[.int .i64 m, .slice a len ca] 26)).alloc (.cells #[.string x, .string y] 36)) (.cells #[.int .i64 0, .slice none 0 0] 26)
    rw [World.size_alloc, World.size_alloc] at h1
    exact h1
  have HB3 : Hid (Below w.heap.size w w3) := by show Below _ _ _; rw [← hw3]; exact (((Below.refl _ _).alloc (Nat.le_refl _) _).alloc (by simp) _).alloc (by simp; omega) _
  have HW3 : Hid (w3.heap.size = w.heap.size + 3) := by show _ = _; rw [← hw3]; simp
  rw [hw3]
  clear hw3
  obtain ⟨W4, hW4⟩ : ∃ W4, w3.alloc (.cells #[.string x, .string y] 36) = W4 := ⟨_, rfl⟩
  have HO : Hid (W4.drew.ownsRow w3.heap.size 36 2 (.slice (some ⟨w3.heap.size, 0, none⟩) 1 1) 1 (fieldCells [(x, y)])) := by
    show World.ownsRow _ _ _ _ _ _ _
    rw [← hW4]
    exact World.ownsRow_lit w3 #[.string x, .string y] 1 (Nat.le_refl _) (by unfold maxLen; omega) rfl
  have HB4 : Hid (Below w3.heap.size w3 W4.drew) := by show Below _ _ _; rw [← hW4]; exact below_drewN ((Below.refl _ _).alloc (Nat.le_refl _) _) 1
  have HF4 : Hid (Flds W4.drew a len xs) := HX.out.below (HB3.out.trans (HB4.out.mono HB3.out.size))
  have HS4 : Hid (w3.heap.size < W4.drew.heap.size) := by show _ < _; rw [← hW4]; simp
  have hu1 : W4.heap[w.heap.size]? = some (.cells #[.int .i64 m, .slice a len ca] 26 (0, 0)) := by rw [← hW4]; exact kept_alloc hq1 _
  have hu2 : W4.heap[w.heap.size + 1]? = some (.cells #[.string x, .string y] 36 (0, 0)) := by rw [← hW4]; exact kept_alloc hq2 _
  have hu3 : W4.heap[w.heap.size + 1 + 1]? = some (.cells #[.int .i64 0, .slice none 0 0] 26 (0, 0)) := by rw [← hW4]; exact kept_alloc hq3 _
  have HU : Hid (∀ W, W4.drew.grownBy W (some w3.heap.size) → W.heap[w.heap.size]? = some (.cells #[.int .i64 m, .slice a len ca] 26 (0, 0)) ∧ W.heap[w.heap.size + 1 + 1]? = some (.cells #[.int .i64 0, .slice none 0 0] 26 (0, 0)) ∧ Below w.heap.size w W ∧ w3.heap.size < W.heap.size) := by
    intro W hg
    have h2 := HW3.out
    have h3 := HS4.out
    exact ⟨(hg.block _ (by omega) (by intro e; injection e with e; omega)).trans hu1, (hg.block _ (by omega) (by intro e; injection e with e; omega)).trans hu3, (HB3.out.trans (HB4.out.mono HB3.out.size)).grown hg (by omega) (fun k hk => by injection hk with hk; omega), Nat.lt_of_lt_of_le h3 hg.size⟩
  have HEnt : Hid (∀ args w, (callFunc 83 args).run Try.prog w = .ok (.enter 83 args) w) := Go.Proofs.enters_of Try.func83 (by kernel_rfl) rfl
  have HFC : Hid (∀ (a5 : Option Addr) (cap5 : Nat) (w5 : World), w5.ownsRow w3.heap.size 36 2 (.slice a5 (1 + len) cap5) (1 + len) (fieldCells [(x, y)] ++ fieldCells xs) → Calls Try.prog 83 #[.agg #[.int .i64 m, .slice a5 (1 + len) cap5]] w5 fun e w' => ∃ k, e = .returned (.agg #[.int .i64 m, .slice a5 k cap5]) ∧ FitN m.toNat ((x, y) :: xs) k ∧ Below w5.heap.size w5 w') := by
    intro a5 cap5 w5 ho
    have hof : OwnF w5 w3.heap.size (.slice a5 (1 + len) cap5) (1 + len) ((x, y) :: xs) := ⟨ho, HFl.out⟩
    exact specFit_any m a5 (1 + len) cap5 ((x, y) :: xs) w5 hof.flds hm hm2 (own_cap ho) HSz.out
  obtain ⟨c0, c1, _, _⟩ := two_cells hq1
  obtain ⟨c2, c3, _, _⟩ := two_cells hq2
  obtain ⟨d0, d1, _, _⟩ := two_cells hu1
  obtain ⟨d2, d3, _, _⟩ := two_cells hu2
  clear hq1 hq2 hq3 hu1 hu2 hu3
  have HW : Hid (w3.alloc (.cells #[.string x, .string y] 36) = W4) := hW4
  go_region_law (first
    | (refine step_append_src rfl (.tmp 8) (.tmp 10) 24 rfl w3.heap.size 36 i0 (.agg #[.string ⟨#[]⟩, .string ⟨#[]⟩]) 2 32 Try.underlying24 hi hz0 hz1 hz2 rfl (by decide) w3.heap.size 1 1 (fieldCells [(x, y)]) rfl HO.out a len ca (fieldCells xs) rfl HNil.out HA.out.2.2 HF4.out.cells (fieldCells_one xs) HA.out.1 HA.out.2.1 (Nat.le_of_lt HS4.out) ?_; intro v5 w5 hown hgrow; obtain ⟨a5, cap5, rfl⟩ := own_shape hown; obtain ⟨e0, e1, _, _⟩ := two_cells (HU.out w5 hgrow).1)
    | (refine step_call_any rfl 83 (.tmp 12) 26 rfl HEnt.out (.agg #[.int .i64 m, .slice a5 (1 + len) cap5]) rfl _ (HFC.out a5 cap5 w5 hown) ?_; rintro e w6 ⟨k, rfl, hfit, hb6⟩; refine ⟨_, rfl, ?_⟩; obtain ⟨g0, g1, g2, g3⟩ := two_cells ((hb6.block _ (Array.getElem?_eq_some_iff.1 (HU.out w5 hgrow).2.1).1).trans (HU.out w5 hgrow).2.1)))
  all_goals
    obtain ⟨t1, t2, t3, t4⟩ := HU.out w5 hgrow
    have h3 := HW3.out
    have hne := own_some hown (by omega)
    have hof : OwnF w6 w3.heap.size (.slice a5 (1 + len) cap5) (1 + len) ((x, y) :: xs) := ⟨own_stays hown hb6, HFl.out⟩
    have hfk := hfit.1
    rw [List.length_cons, hlen] at hfk
    have hok := hof.take k (by omega) hne
    have HO6 : Hid (OwnF ((w6.setCell ⟨w.heap.size + 1 + 1, 0, none⟩ (.int .i64 m)).setCell ⟨w.heap.size + 1 + 1, 1, none⟩ (.slice a5 k cap5)) w.heap.size (.slice a5 k cap5) k (((x, y) :: xs).take k)) :=
      ⟨own_down (ownsRow_setCell_below (ownsRow_setCell_below hok.1 (a := ⟨w.heap.size + 1 + 1, 0, none⟩) (by dsimp only; omega) _) (a := ⟨w.heap.size + 1 + 1, 1, none⟩) (by dsimp only; omega) _) (by omega), hok.2⟩
    have HB6 : Hid (Below w.heap.size w ((w6.setCell ⟨w.heap.size + 1 + 1, 0, none⟩ (.int .i64 m)).setCell ⟨w.heap.size + 1 + 1, 1, none⟩ (.slice a5 k cap5))) :=
      ((t3.trans (hb6.mono t3.size)).setCell (p := ⟨w.heap.size + 1 + 1, 0, none⟩) (by dsimp only; omega) _).setCell (p := ⟨w.heap.size + 1 + 1, 1, none⟩) (by dsimp only; omega) _
    have HFit : Hid (FitN m.toNat ((x, y) :: xs) k) := hfit
    clear t1 t2 t3 t4 h3 hne hof hfk hok hown hgrow hb6 hfit e0 e1
    go_wp2
    refine bodyPost_ret (v := .agg #[.int .i64 m, .slice a5 k cap5]) (by simp [results, Try.f66, go_sem, g0, g1]) rfl ?_
    exact ⟨_, k, rfl, HFit.out, HO6.out, HB6.out⟩

end Go.Proofs.Ytghakpcagacdaac

namespace Go.Proofs.Ytghakpcagacdaac
open Go.RowKit
set_option linter.unusedVariables false

/-- A row made since is not the cursor's block. -/
theorem own_cur {w : World} {base n size c : Nat} {e : TypeId} {v : Value} {xs : List Value} (h : w.ownsRow base e size v n xs) (hc : c < base) : v.ownBlock ≠ some c := fun e => by have := (h.lt c e).1; omega

set_option maxRecDepth 10000 in
set_option maxHeartbeats 1600000 in
theorem l4Draw_ok (B c : Nat) (a : Option Addr) (len cap : Nat) (zs : List Int) (w : World) (hcur : Cur w B c a len cap zs) (hl : len ≤ 1099511627776) :
    Calls Try.prog 35 #[.pointer (some ⟨c, 0, none⟩)] w fun e w' => ∃ (m : Int) (v : Value) (n : Nat) (xs : List Fld), e = .returned (.agg #[.int .i64 m, v]) ∧ (0 ≤ m ∧ m ≤ 4096 ∧ n ≤ 5 ∧ fldBytes xs ≤ 400) ∧ (szL xs : Int) ≤ m ∧ OwnF w' w.heap.size v n xs ∧ Cur w' B c a len cap zs ∧ w.grownBy w' (some c) := by
  have hcl := hcur.lt
  obtain ⟨w1, hw1⟩ : ∃ w1, w.alloc (.cells #[.int .i64 0, .slice none 0 0] 26) = w1 := ⟨_, rfl⟩
  have HQ1 : Hid (Box2 w1 w.heap.size 26 (.int .i64 0) (.slice none 0 0)) := by show Box2 _ _ _ _ _; rw [← hw1]; exact Box2.new _ _ _ _
  have hs1 : w1.heap.size = w.heap.size + 1 := by rw [← hw1]; simp
  have HC1 : Hid (Cur w1 B c a len cap zs) := by rw [← hw1]; exact hcur.new _
  have HG1 : Hid (w.grownBy w1 (some c)) := by show World.grownBy _ _ _; rw [← hw1]; exact World.grownBy_alloc _ _ _
  clear hcur
  go_enter Try.func35, Try.ntmps35
  go_wp2_with fail
  refine (l1Int_any B c a len cap zs (w.heap.size + 1) 5 5 [200, 100, 4096, 0, 60] _ (HC1.out.new _) hl (by rw [← hs1]; exact heap_alloc_new w1 _) (by omega) rfl (by omega) (by omega)).mono ?_
  rintro e w2 ⟨m, rfl, hm, hc2, hg2⟩
  have hm0 : 0 ≤ m ∧ m ≤ 4096 := by
    simp only [List.mem_cons, List.not_mem_nil, or_false] at hm
    omega
  have HC2 : Hid (Cur w2 B c a len cap zs) := hc2
  have HG2 : Hid (w.grownBy w2 (some c)) := gtrans (gnew HG1.out _) hg2
  have HQ2 : Hid (Box2 w2 w.heap.size 26 (.int .i64 0) (.slice none 0 0)) := (HQ1.out.alloc _).grown hg2 (by intro e; injection e with e; omega)
  have hs2 : w.heap.size < w2.heap.size := HQ2.out.lt
  clear hm hc2 hg2 HC1 HG1 HQ1 hw1
  go_wp2_with fail
  obtain ⟨w3, hw3⟩ : ∃ w3, w2.alloc (.cells #[.int .i64 m, .slice none 0 0] 26) = w3 := ⟨_, rfl⟩
  have HT3 : Hid (Box2 w3 w2.heap.size 26 (.int .i64 m) (.slice none 0 0)) := by show Box2 _ _ _ _ _; rw [← hw3]; exact Box2.new _ _ _ _
  have HC3 : Hid (Cur w3 B c a len cap zs) := by rw [← hw3]; exact HC2.out.new _
  have HG3 : Hid (w.grownBy w3 (some c)) := by show World.grownBy _ _ _; rw [← hw3]; exact gnew HG2.out _
  have HQ3 : Hid (Box2 w3 w.heap.size 26 (.int .i64 0) (.slice none 0 0)) := by show Box2 _ _ _ _ _; rw [← hw3]; exact HQ2.out.alloc _
  clear HC2 HG2 HQ2
  rw [hw3]
  clear hw3
  generalize w2.heap.size = tb at *
  refine (l1Below_any B c a len cap zs 6 _ HC3.out hl (by omega) (by omega)).mono ?_
  rintro e w4 ⟨x, rfl, hx0, hx1, hc4, hg4⟩
  obtain ⟨n6, rfl⟩ := Int.eq_ofNat_of_zero_le hx0
  have hn6 : n6 ≤ 5 := by omega
  have HT4 : Hid (Box2 w4 tb 26 (.int .i64 m) (.slice none 0 0)) := HT3.out.grown hg4 (by intro e; injection e with e; omega)
  have HC4 : Hid (Cur w4 B c a len cap zs) := hc4
  have HG4 : Hid (w.grownBy w4 (some c)) := gtrans HG3.out hg4
  have HQ4 : Hid (Box2 w4 w.heap.size 26 (.int .i64 0) (.slice none 0 0)) := HQ3.out.grown hg4 (by intro e; injection e with e; omega)
  clear hc4 hg4 hx0 hx1 HT3 HC3 HG3 HQ3
  go_wp2_with fail
  go_loopw [4] (fun i wr => ∃ (j n cv : Nat) (av : Option Addr) (xs : List Fld), i = .int .i64 (j : Int) ∧ n + j ≤ 5 ∧ fldBytes xs + 80 * j ≤ 400 ∧ Hid (szL xs ≤ m.toNat) ∧ Hid (Box2 wr tb 26 (.int .i64 m) (.slice av n cv) ∧ OwnF wr w.heap.size (.slice av n cv) n xs ∧ Cur wr B c a len cap zs ∧ w.grownBy wr (some c) ∧ Box2 wr w.heap.size 26 (.int .i64 0) (.slice none 0 0))) (fun i _ => (intOf i).toNat)
  case atStart => exact ⟨n6, 0, 0, none, [], rfl, by omega, by simp [fldBytes]; omega, (by show _ ≤ _; simp [szL, fldBytes]), HT4.out, ⟨World.ownsRow_nil _ _ _ _, fun f hf => by cases hf⟩, HC4.out, HG4.out, HQ4.out⟩
  case round =>
    clear HT4 HC4 HG4 HQ4
    obtain ⟨j, n, cv, av, xs, rfl, hnj, hbj, HSz, HI⟩ := hrel
    obtain ⟨b0, b1, b2, b3⟩ := HI.out.1.cells
    by_cases h0 : j = 0
    · subst h0
      obtain ⟨q0, q1, q2, q3⟩ := HI.out.2.2.2.2.cells
      have HR : Hid (Box2 ((wr.setCell ⟨w.heap.size, 0, none⟩ (.int .i64 m)).setCell ⟨w.heap.size, 1, none⟩ (.slice av n cv)) w.heap.size 26 (.int .i64 m) (.slice av n cv)) := two_set1 (two_set0 HI.out.2.2.2.2 _) _
      have HOr : Hid (OwnF ((wr.setCell ⟨w.heap.size, 0, none⟩ (.int .i64 m)).setCell ⟨w.heap.size, 1, none⟩ (.slice av n cv)) w.heap.size (.slice av n cv) n xs) := by
        have ho := HI.out.2.1
        have hne := own_other' ho.1 HI.out.2.2.2.2 (by decide)
        exact (ho.grown (gset _ w.heap.size 0 _) (.inr hne)).grown (gset _ w.heap.size 1 _) (.inr hne)
      go_wp2_with fail
      obtain ⟨r0, r1, _, _⟩ := HR.out.cells
      refine bodyPost_ret (v := .agg #[.int .i64 m, .slice av n cv]) (by simp [results, Try.f35, go_sem, r0, r1]) rfl ?_
      exact ⟨m, _, n, xs, rfl, ⟨hm0.1, hm0.2, by omega, by omega⟩, (by have := HSz.out; have := hm0.1; omega), HOr.out, (HI.out.2.2.1.put hcl _).put hcl _, gput (gput HI.out.2.2.2.1 (Nat.le_refl _) _) (Nat.le_refl _) _⟩
    · obtain ⟨j', rfl⟩ : ∃ j', j = j' + 1 := ⟨j - 1, by omega⟩
      have htl : tb < wr.heap.size := HI.out.1.lt
      have HCd : Hid (Cur wr.drew B c a len cap zs) := HI.out.2.2.1
      have hji : ((j' + 1 : Nat) : Int) = (j' : Int) + 1 := by omega
      have hjp : (0 : Int) < (j' : Int) + 1 := by omega
      rw [hji]
      have HTb : Hid (w.heap.size < tb) := hs2
      go_wp2_with fail
      go_region_with (first
        | (go_at_call 42; refine (l4Field_any B c a len cap zs _ HCd.out hl).mono ?_; rintro e y1 ⟨x, y, rfl, hx, hy, hc1, hg1⟩; obtain ⟨d0, d1, d2, d3⟩ := (Box2.grown (W := wr.drew) HI.out.1 hg1 (by intro e; injection e with e; omega)).cells)
        | (go_at_call 66; refine (specAdd4_any m av n cv xs x y _ (OwnF.grown (W := wr.drew) HI.out.2.1 hg1 (.inr (own_cur HI.out.2.1.1 hcl))).flds hm0.1 hm0.2 ⟨by unfold maxLen; omega, by unfold maxLen; omega⟩ (by omega)).mono ?_; rintro e y2 ⟨v2, k, rfl, hfit, how, hb2⟩; obtain ⟨a2, c2, rfl⟩ := how.shape; have hbx := (Box2.grown (W := wr.drew) HI.out.1 hg1 (by intro e; injection e with e; omega)).stays hb2; obtain ⟨e0, e1, e2, e3⟩ := hbx.cells))
      all_goals
        have hg1s := hg1.size
        have HSz2 : Hid (szL (((x, y) :: xs).take k) ≤ m.toNat) := hfit.2.1
        have hk : k ≤ n + 1 := by have := hfit.1; have := HI.out.2.1.len; simp only [List.length_cons] at *; omega
        have hfb : fldBytes (((x, y) :: xs).take k) ≤ x.size + y.size + fldBytes xs := by
          have h1 := fldBytes_take ((x, y) :: xs) k
          have h2 : fldBytes ((x, y) :: xs) = x.size + y.size + fldBytes xs := by simp [fldBytes]
          omega
        have hgw : w.grownBy y2 (some c) := gtrans (gtrans HI.out.2.2.2.1 (gtrans (gdrew wr 1 (some c)) hg1)) (gbelow hb2 (some c))
        have HNew : Hid (Box2 ((y2.setCell ⟨tb, 0, none⟩ (.int .i64 m)).setCell ⟨tb, 1, none⟩ (.slice a2 k c2)) tb 26 (.int .i64 m) (.slice a2 k c2) ∧ OwnF ((y2.setCell ⟨tb, 0, none⟩ (.int .i64 m)).setCell ⟨tb, 1, none⟩ (.slice a2 k c2)) w.heap.size (.slice a2 k c2) k (((x, y) :: xs).take k) ∧ Cur ((y2.setCell ⟨tb, 0, none⟩ (.int .i64 m)).setCell ⟨tb, 1, none⟩ (.slice a2 k c2)) B c a len cap zs ∧ w.grownBy ((y2.setCell ⟨tb, 0, none⟩ (.int .i64 m)).setCell ⟨tb, 1, none⟩ (.slice a2 k c2)) (some c) ∧ Box2 ((y2.setCell ⟨tb, 0, none⟩ (.int .i64 m)).setCell ⟨tb, 1, none⟩ (.slice a2 k c2)) w.heap.size 26 (.int .i64 0) (.slice none 0 0)) := by
          have ht := HTb.out
          have hsz : wr.heap.size ≤ y1.heap.size := hg1s
          refine ⟨two_set1 (two_set0 hbx _) _, ⟨own_down (ownsRow_setCell_below (ownsRow_setCell_below how.1 (a := ⟨tb, 0, none⟩) (by show tb < _; omega) _) (a := ⟨tb, 1, none⟩) (by show tb < _; omega) _) (by have := HI.out.2.2.2.1.size; omega), how.2⟩, ((hc1.kept (gbelow hb2 none) (by simp)).put (by omega) _).put (by omega) _, gput (gput hgw (by omega) _) (by omega) _, ?_⟩
          have hq := (Box2.grown (W := wr.drew) HI.out.2.2.2.2 hg1 (by intro e; injection e with e; omega)).stays hb2
          exact (set_block_other _ _ _ _ _ (by omega)).trans ((set_block_other _ _ _ _ _ (by omega)).trans hq)
        clear hc1 hg1 how hb2 hbx hfit hgw b0 b1 b2 b3 d0 d1 d2 d3
        go_wp2_with fail
        go_roundw
        case rel => exact ⟨j', k, c2, a2, _, by go_num, by omega, by omega, HSz2, HNew⟩
        case measure => simp [intOf]

theorem l4Draw_any (B c : Nat) (a : Option Addr) (len cap : Nat) (zs : List Int) (w : World) (hcur : Cur w B c a len cap zs) (hl : len ≤ 1099511627776) :
    Calls Try.prog 35 #[.pointer (some ⟨c, 0, none⟩)] w fun e w' => ∃ (m : Int) (v : Value) (n : Nat) (xs : List Fld), e = .returned (.agg #[.int .i64 m, v]) ∧ (0 ≤ m ∧ m ≤ 4096 ∧ n ≤ 5 ∧ fldBytes xs ≤ 400) ∧ OwnF w' w.heap.size v n xs ∧ Cur w' B c a len cap zs ∧ w.grownBy w' (some c) :=
  (l4Draw_ok B c a len cap zs w hcur hl).mono fun e w' ⟨m, v, n, xs, h1, h2, _, h3⟩ => ⟨m, v, n, xs, h1, h2, h3⟩

end Go.Proofs.Ytghakpcagacdaac

namespace Go.Proofs.Ytghakpcagacdaac
open Go.RowKit
set_option linter.unusedVariables false

theorem fieldNew (w : World) (x y : ByteArray) (t : TypeId) : ∀ j u, [Value.string x, Value.string y][j]? = some u → (w.alloc (.cells #[.string x, .string y] t)).cell? ((⟨w.heap.size, 0, none⟩ : Addr).add j) = some u := by
  intro j u hj
  match j, hj with
  | 0, hj => simp at hj; subst hj; simp [Addr.add]
  | 1, hj => simp at hj; subst hj; simp [Addr.add]

theorem fieldTwo (x y : ByteArray) : ∀ u ∈ [Value.string x, Value.string y], u.oneCell' = true := by
  intro u hu
  simp at hu
  rcases hu with rfl | rfl <;> rfl

/-- What a draw of fields keeps. -/
def DF (w W : World) (B c : Nat) (a : Option Addr) (len cap : Nat) (zs : List Int) (g n cp : Nat) (l : List Fld) : Prop :=
  Cur W B c a len cap zs ∧ w.grownBy W (some c) ∧ OwnF W w.heap.size (.slice (some ⟨g, 0, none⟩) n cp) n l ∧ ∀ f ∈ l, f.1.size ≤ 40 ∧ f.2.size ≤ 40

theorem DF.new {w W : World} {B c : Nat} {a : Option Addr} {len cap : Nat} {zs : List Int} {g n cp : Nat} {l : List Fld} (h : DF w W B c a len cap zs g n cp l) (o : Obj) : DF w (W.alloc o) B c a len cap zs g n cp l :=
  ⟨h.1.new o, gnew h.2.1 o, h.2.2.1.stays ((Below.refl _ _).alloc (Nat.le_refl _) _), h.2.2.2⟩

theorem DF.call {w W W' : World} {B c : Nat} {a : Option Addr} {len cap : Nat} {zs : List Int} {g n cp : Nat} {l : List Fld} (h : DF w W B c a len cap zs g n cp l) (hc : Cur W' B c a len cap zs) (hg : W.grownBy W' (some c)) (hcw : c < w.heap.size) : DF w W' B c a len cap zs g n cp l :=
  ⟨hc, gtrans h.2.1 hg, h.2.2.1.grown hg (.inr (own_cur h.2.2.1.1 hcw)), h.2.2.2⟩

theorem DF.app {w W W' : World} {B c : Nat} {a : Option Addr} {len cap : Nat} {zs : List Int} {g n cp : Nat} {l : List Fld} (h : DF w W B c a len cap zs g n cp l) (hcw : c < w.heap.size) {v : Value} {x y : ByteArray} (hx : x.size ≤ 40) (hy : y.size ≤ 40)
    (ho : W'.ownsRow w.heap.size 36 2 v (n + 1) (fieldCells l ++ [.string x, .string y])) (hg : W.grownBy W' (some g)) : ∃ g' cp', v = .slice (some ⟨g', 0, none⟩) (n + 1) cp' ∧ DF w W' B c a len cap zs g' (n + 1) cp' (l ++ [(x, y)]) := by
  have hgl := h.2.2.1.lt g rfl
  rcases ho.2 with ⟨_, h0⟩ | ⟨g', cap', cur, he, hb, r⟩
  · omega
  · refine ⟨g', cap', he, h.1.kept hg (fun k hk => ?_), gown h.2.1 hg (fun k hk => ?_), ⟨?_, ?_⟩, ?_⟩
    · injection hk with hk
      have := h.1.1
      omega
    · injection hk with hk
      omega
    · rw [fieldCells_append, ← he]
      exact ho
    · intro s hs
      rcases List.mem_append.1 hs with hs | hs
      · exact h.2.2.1.2 s hs
      · obtain rfl : s = (x, y) := by simpa using hs
        unfold maxLen
        dsimp only
        omega
    · intro s hs
      rcases List.mem_append.1 hs with hs | hs
      · exact h.2.2.2 s hs
      · obtain rfl : s = (x, y) := by simpa using hs
        exact ⟨hx, hy⟩

set_option maxRecDepth 10000 in
set_option maxHeartbeats 1600000 in
theorem l5Fields_any (B c : Nat) (a : Option Addr) (len cap : Nat) (zs : List Int) (w : World) (hcur : Cur w B c a len cap zs) (hl : len ≤ 1099511627776) :
    Calls Try.prog 36 #[.pointer (some ⟨c, 0, none⟩)] w fun e w' => ∃ (g n cp : Nat) (l : List Fld), e = .returned (.slice (some ⟨g, 0, none⟩) n cp) ∧ n ≤ 5 ∧ DF w w' B c a len cap zs g n cp l := by
  obtain ⟨i0, hi, hz0, hz1, hz2⟩ := info_parts info_field
  have hcl : c < w.heap.size := hcur.lt
  have HD0 : Hid (DF w (w.alloc (.cells #[] 36)) B c a len cap zs w.heap.size 0 0 []) := ⟨hcur.new _, World.grownBy_alloc w _ _, ⟨World.ownsRow_lit w #[] 0 (Nat.le_refl _) (Nat.zero_le _) rfl, by simp⟩, by simp⟩
  clear hcur
  go_enter Try.func36, Try.ntmps36
  go_wp2_with fail
  refine (l1Below_any B c a len cap zs 6 _ HD0.out.1 hl (by omega) (by omega)).mono ?_
  rintro e w1 ⟨m, rfl, hm0, hm1, hc1, hg1⟩
  have HD1 : Hid (DF w w1 B c a len cap zs w.heap.size 0 0 []) := HD0.out.call hc1 hg1 hcl
  obtain ⟨M, rfl⟩ := Int.eq_ofNat_of_zero_le hm0
  clear hc1 hg1 HD0
  go_wp2_with fail
  go_loopw [3, 4] (fun v i wr => ∃ (j g n cp : Nat) (l : List Fld), i = .int .i64 (j : Int) ∧ v = .slice (some ⟨g, 0, none⟩) n cp ∧ n + j ≤ 5 ∧ Hid (DF w wr B c a len cap zs g n cp l)) (fun _ i _ => (intOf i).toNat)
  case atStart => exact ⟨M, w.heap.size, 0, 0, [], rfl, rfl, by omega, HD1⟩
  case round =>
    clear HD1
    obtain ⟨j, g, n, cp, l, rfl, rfl, hnj, HD⟩ := hrel
    by_cases hj : j = 0
    · subst hj
      go_wp2_with fail
      go_ret
      exact ⟨g, n, cp, l, rfl, by omega, HD.out⟩
    · have hji : (0 : Int) < (j : Int) := by omega
      go_wp2_with fail
      refine (l4Field_any B c a len cap zs wr HD.out.1 hl).mono ?_
      rintro e w4 ⟨x, y, rfl, hx, hy, hc4, hg4⟩
      have HX : Hid (x.size ≤ 40) := hx
      have HY : Hid (y.size ≤ 40) := hy
      have HD4 : Hid (DF w w4 B c a len cap zs g n cp l) := HD.out.call hc4 hg4 hcl
      have hsz := HD4.out.2.1.size
      clear hx hy hc4 hg4 HD
      have HN2 : Hid (∀ j u, [Value.string x, Value.string y][j]? = some u → (w4.alloc (.cells #[.string x, .string y] 36)).cell? ((⟨w4.heap.size, 0, none⟩ : Addr).add j) = some u) := fieldNew w4 x y _
      go_wp2_with (at_builtin; refine wpList_append_own _ rfl _ _ 24 rfl w.heap.size 36 i0 (.agg #[.string ⟨#[]⟩, .string ⟨#[]⟩]) 2 32 Try.underlying24 hi hz0 hz1 hz2 rfl (by decide) (.slice (some ⟨g, 0, none⟩) n cp) n _ rfl (HD4.out.new _).2.2.1.1 ⟨w4.heap.size, 0, none⟩ 1 1 [.string x, .string y] rfl rfl HN2.out (fieldTwo x y) (by unfold maxLen; omega) (by omega) (by simp; omega) ?_; intro v5 w5 hown5 hgrow5 _; refine Hid.out ?_)
      refine hidden ?_
      obtain ⟨g5, cp5, rfl, hd5⟩ := (HD4.out.new _).app hcl HX.out HY.out hown5 hgrow5
      have HD5 : Hid (DF w w5 B c a len cap zs g5 (n + 1) cp5 (l ++ [(x, y)])) := hd5
      clear hown5 hgrow5 hd5 HN2 HD4
      go_wp2_with fail
      go_roundw
      case rel => exact ⟨j - 1, g5, n + 1, cp5, l ++ [(x, y)], by go_num, rfl, by omega, HD5⟩
      case measure => simp [intOf]; omega

theorem fld_sum {l : List Fld} (h : ∀ f ∈ l, f.1.size ≤ 40 ∧ f.2.size ≤ 40) : fldBytes l ≤ 80 * l.length := by
  induction l with
  | nil => simp [fldBytes]
  | cons f l ih =>
    have h1 := h f (List.mem_cons_self)
    have h2 := ih (fun g hg => h g (List.mem_cons_of_mem _ hg))
    have e : fldBytes (f :: l) = f.1.size + f.2.size + fldBytes l := by simp [fldBytes]
    rw [e, List.length_cons]
    omega

set_option maxRecDepth 10000 in
set_option maxHeartbeats 1600000 in
theorem drawHead_any (a : Option Addr) (len cap : Nat) (zs : List Int) (w : World) (hs : Seg w a len zs) (hl : len ≤ 1099511627776) :
    Calls Try.prog 9 #[.slice a len cap] w fun e w' => ∃ (m : Int) (va : Option Addr) (n vc : Nat) (xs : List Fld) (g k cp : Nat) (l : List Fld), e = .returned (.tuple #[.agg #[.int .i64 m, .slice va n vc], .slice (some ⟨g, 0, none⟩) k cp]) ∧ okT m xs = true ∧ k ≤ 5 ∧ (∀ f ∈ l, f.1.size ≤ 40 ∧ f.2.size ≤ 40) ∧ Flds w' va n xs ∧ Flds w' (some ⟨g, 0, none⟩) k l ∧ Below w.heap.size w w' := by
  obtain ⟨w1, hw1⟩ : ∃ w1, w.alloc (.cells #[.int .i64 0, .slice none 0 0] 26) = w1 := ⟨_, rfl⟩
  have HQ1 : Hid (Box2 w1 w.heap.size 26 (.int .i64 0) (.slice none 0 0)) := by show Box2 _ _ _ _ _; rw [← hw1]; exact Box2.new _ _ _ _
  have HB1 : Hid (Below w.heap.size w w1) := by show Below _ _ _; rw [← hw1]; exact (Below.refl _ _).alloc (Nat.le_refl _) _
  have HS1 : Hid (Seg w1 a len zs) := hs.below HB1.out
  have hww : w.heap.size < w1.heap.size := HQ1.out.lt
  clear hs
  go_enter Try.func9, Try.ntmps9
  go_wp2_with fail
  refine (l1New_any a len cap zs w1 HS1.out hl).mono ?_
  rintro e w2 ⟨rfl, hc2, hb2⟩
  have HQ2 : Hid (Box2 w2 w.heap.size 26 (.int .i64 0) (.slice none 0 0)) := HQ1.out.stays hb2
  have HB2 : Hid (Below w.heap.size w w2) := HB1.out.trans (hb2.mono HB1.out.size)
  have HC2 : Hid (Cur w2 w1.heap.size w1.heap.size a len cap zs) := hc2
  have hcl : w1.heap.size < w2.heap.size := hc2.lt
  clear hc2 hb2 HQ1 HB1 hw1
  generalize w1.heap.size = c at *
  go_wp2_with fail
  refine (l4Draw_ok c c a len cap zs w2 HC2.out hl).mono ?_
  rintro e w3 ⟨m, v, n, xs, rfl, ⟨hm0, hm1, hn5, hfb⟩, hsz, ho3, hc3, hg3⟩
  obtain ⟨va, vc, rfl⟩ := ho3.shape
  have HOk : Hid (okT m xs = true) := (okT_iff m xs).2 ⟨hm0, hm1, hsz⟩
  have HQ3 : Hid (Box2 w3 w.heap.size 26 (.int .i64 0) (.slice none 0 0)) := HQ2.out.grown hg3 (by intro e; injection e with e; omega)
  have HB3 : Hid (Below w.heap.size w w3) := HB2.out.grown hg3 HB2.out.size (fun k hk => by injection hk with hk; omega)
  have HC3 : Hid (Cur w3 c c a len cap zs) := hc3
  have HO3 : Hid (OwnF w3 w2.heap.size (.slice va n vc) n xs) := ho3
  have hcl3 : w2.heap.size ≤ w3.heap.size := hg3.size
  clear hm0 hm1 hn5 hfb hsz ho3 hc3 hg3 HQ2 HB2 HC2
  go_wp2_with fail
  refine (l5Fields_any c c a len cap zs w3 HC3.out hl).mono ?_
  rintro e w4 ⟨g, k, cp, l, rfl, hk5, hd4⟩
  have HD4 : Hid (DF w3 w4 c c a len cap zs g k cp l) := hd4
  have hg4 := hd4.2.1
  have hq4 : Box2 w4 w.heap.size 26 (.int .i64 0) (.slice none 0 0) := HQ3.out.grown hg4 (by intro e; injection e with e; omega)
  have HB4 : Hid (Below w.heap.size w w4) := HB3.out.grown hg4 HB3.out.size (fun k hk => by injection hk with hk; omega)
  have HO4 : Hid (OwnF w4 w2.heap.size (.slice va n vc) n xs) := HO3.out.grown hg4 (.inr (own_cur HO3.out.1 hcl))
  have HR : Hid (Box2 ((w4.setCell ⟨w.heap.size, 0, none⟩ (.int .i64 m)).setCell ⟨w.heap.size, 1, none⟩ (.slice va n vc)) w.heap.size 26 (.int .i64 m) (.slice va n vc)) := two_set1 (two_set0 hq4 _) _
  have HEnd : Hid (∀ (v' : Value) (n' b' : Nat) (ys : List Fld), OwnF w4 b' v' n' ys → w.heap.size < b' → OwnF ((w4.setCell ⟨w.heap.size, 0, none⟩ (.int .i64 m)).setCell ⟨w.heap.size, 1, none⟩ (.slice va n vc)) b' v' n' ys) := fun v' n' b' ys h hb => by
    have hne := own_cur h.1 (c := w.heap.size) hb
    exact (h.grown (gset _ w.heap.size 0 _) (.inr hne)).grown (gset _ w.heap.size 1 _) (.inr hne)
  obtain ⟨q0, q1, q2, q3⟩ := hq4.cells
  clear hd4 hg4 hq4 HQ3 HB3 HC3 HO3
  go_wp2_with fail
  obtain ⟨r0, r1, _, _⟩ := HR.out.cells
  refine bodyPost_ret (v := .tuple #[.agg #[.int .i64 m, .slice va n vc], .slice (some ⟨g, 0, none⟩) k cp]) (by simp [results, Try.f9, go_sem, r0, r1]) rfl ?_
  exact ⟨m, va, n, vc, xs, g, k, cp, l, rfl, HOk.out, hk5, HD4.out.2.2.2, (HEnd.out _ _ _ _ HO4.out (by omega)).flds, (HEnd.out _ _ _ _ HD4.out.2.2.1 (by omega)).flds, (HB4.out.setCell (p := ⟨w.heap.size, 0, none⟩) (Nat.le_refl _) _).setCell (p := ⟨w.heap.size, 1, none⟩) (Nat.le_refl _) _⟩

end Go.Proofs.Ytghakpcagacdaac
