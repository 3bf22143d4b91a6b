/- The draw of a request that is right. For codes of at most 2^40 bytes. -/
import Derived.Test.YthojijhafhnclaeDoorDrawCs
import Derived.Test.YthojijhafhnclaeDoorReqOkS
import Derived.Test.YthojijhafhnclaeDoorBox4Set
import Derived.Deep.CutBlock
import Derived.Deep.RegionHeld3
namespace Go.Proofs.YthojijhafhnclaeDoor
open Go.RowKit
set_option linter.unusedVariables false

def idsL : List ByteArray := [⟨#[97]⟩, ⟨#[98]⟩, ⟨#[117, 112, 49]⟩, ⟨#[101, 105, 103, 104, 116, 108, 101, 116]⟩]

theorem idsL_ok : ∀ s ∈ idsL, idB s.data.toList = true := by decide

set_option maxRecDepth 10000 in
set_option maxHeartbeats 3200000 in
theorem l11Req_any (B c : Nat) (a : Option Addr) (len cap : Nat) (zs : List Int) (w : World) (hcur : Cur w B c a len cap zs) (hl : len ≤ 1099511627776) :
    Calls Tryd.prog 16 #[.pointer (some ⟨c, 0, none⟩)] w fun e w' => ∃ (op n : Int) (s : ByteArray), e = .returned (.agg #[.int .i64 op, .string s, .int .i64 n]) ∧ reqB op s.data.toList n = true ∧ s.size ≤ 8 ∧ Cur w' B c a len cap zs ∧ w.grownBy w' (some c) := by
  have HC : Hid (Cur w B c a len cap zs) := hcur
  clear hcur
  go_enter Tryd.func16, Tryd.ntmps16
  have hcw : c < w.heap.size := HC.out.lt
  have HQ1 : Hid (Box3 (w.alloc (.cells #[.int .i64 0, .string ⟨#[]⟩, .int .i64 0] 25)) w.heap.size 25 (.int .i64 0) (.string ⟨#[]⟩) (.int .i64 0)) := Box3.new _ _ _ _ _
  have HC1 : Hid (Cur (w.alloc (.cells #[.int .i64 0, .string ⟨#[]⟩, .int .i64 0] 25)) B c a len cap zs) := HC.out.new _
  have HG1 : Hid (w.grownBy (w.alloc (.cells #[.int .i64 0, .string ⟨#[]⟩, .int .i64 0] 25)) (some c)) := gnew ⟨rfl, rfl, rfl, Nat.le_refl _, fun _ _ _ => rfl⟩ _
  go_wp2_with fail
  obtain ⟨w1, hw1⟩ : ∃ w1, w.alloc (.cells #[.int .i64 0, .string ⟨#[]⟩, .int .i64 0] 25) = w1 := ⟨_, rfl⟩
  rw [hw1] at HQ1 HC1 HG1 ⊢
  clear hw1 HC
  refine (l1Below_any B c a len cap zs 6 w1 HC1.out hl (by omega) (by omega)).mono ?_
  rintro e w2 ⟨x, rfl, hx0, hx1, hc2, hg2⟩
  obtain ⟨k, rfl⟩ := Int.eq_ofNat_of_zero_le hx0
  have HQ2 := (show Hid (Box3 w2 w.heap.size 25 (.int .i64 0) (.string ⟨#[]⟩) (.int .i64 0)) from HQ1.out.grown hg2 (fun e => by injection e with e; omega))
  have HG2 : Hid (w.grownBy w2 (some c)) := gtrans HG1.out hg2
  have HC2 : Hid (Cur w2 B c a len cap zs) := hc2
  clear hc2 hg2 HQ1 HC1 HG1
  have HC3 : Hid (Cur (w2.alloc (.cells #[.string ⟨#[97]⟩, .string ⟨#[98]⟩, .string ⟨#[117, 112, 49]⟩, .string ⟨#[101, 105, 103, 104, 116, 108, 101, 116]⟩] 9)) B c a len cap zs) := HC2.out.new _
  have HQ3 : Hid (Box3 (w2.alloc (.cells #[.string ⟨#[97]⟩, .string ⟨#[98]⟩, .string ⟨#[117, 112, 49]⟩, .string ⟨#[101, 105, 103, 104, 116, 108, 101, 116]⟩] 9)) w.heap.size 25 (.int .i64 0) (.string ⟨#[]⟩) (.int .i64 0)) := HQ2.out.alloc _
  have HG3 : Hid (w.grownBy (w2.alloc (.cells #[.string ⟨#[97]⟩, .string ⟨#[98]⟩, .string ⟨#[117, 112, 49]⟩, .string ⟨#[101, 105, 103, 104, 116, 108, 101, 116]⟩] 9)) (some c)) := gnew HG2.out _
  have HL3 : Hid ((w2.alloc (.cells #[.string ⟨#[97]⟩, .string ⟨#[98]⟩, .string ⟨#[117, 112, 49]⟩, .string ⟨#[101, 105, 103, 104, 116, 108, 101, 116]⟩] 9)).heap[w2.heap.size]? = some (.cells (idsL.map Value.string).toArray 9 (0, 0))) := heap_alloc_new w2 _
  have hc2w : c < w2.heap.size := HC2.out.lt
  go_wp2_with fail
  obtain ⟨w3, hw3⟩ : ∃ w3, w2.alloc (.cells #[.string ⟨#[97]⟩, .string ⟨#[98]⟩, .string ⟨#[117, 112, 49]⟩, .string ⟨#[101, 105, 103, 104, 116, 108, 101, 116]⟩] 9) = w3 := ⟨_, rfl⟩
  rw [hw3] at HQ3 HC3 HG3 HL3 ⊢
  clear hw3 HQ2 HC2 HG2
  generalize w2.heap.size = g2 at *
  refine (l1Str_any B c a len cap zs g2 4 4 idsL w3 HC3.out hl HL3.out (by omega) rfl (by omega) (by omega)).mono ?_
  rintro e w4 ⟨s, rfl, hs, hc4, hg4⟩
  have HQ4 := (show Hid (Box3 w4 w.heap.size 25 (.int .i64 0) (.string ⟨#[]⟩) (.int .i64 0)) from HQ3.out.grown hg4 (fun e => by injection e with e; omega))
  have HG4 : Hid (w.grownBy w4 (some c)) := gtrans HG3.out hg4
  have HC4 : Hid (Cur w4 B c a len cap zs) := hc4
  have HId : Hid (idB s.data.toList = true) := idsL_ok s hs
  have HS8 : Hid (s.size ≤ 8) := by
    have h := idsL_ok s hs
    simp only [idB, Bool.and_eq_true, decide_eq_true_eq] at h
    have := h.2.2
    rw [Array.length_toList] at this
    exact this
  clear hc4 hg4 HQ3 HC3 HG3 HL3 hs hc2w
  obtain ⟨op, hop⟩ : ∃ op : Int, (1 : Int) + (k : Int) = op := ⟨_, rfl⟩
  have ho1 : 1 ≤ op := by omega
  have ho6 : op ≤ 6 := by omega
  rw [hop]
  have HB : Hid (∀ n : Int, (if mostR op < 0 then n == 0 else decide (0 ≤ n ∧ n ≤ mostR op)) = true → reqB op s.data.toList n = true) := fun n hn => by
    rw [reqB, HId.out, hn, decide_eq_true ⟨ho1, ho6⟩]
    rfl
  clear hop hx0 hx1
  have HP5 : Hid (Box3 (w4.alloc (.cells #[.int .i64 op, .string s, .int .i64 0] 25)) w4.heap.size 25 (.int .i64 op) (.string s) (.int .i64 0)) := Box3.new _ _ _ _ _
  have HQ5 : Hid (Box3 (w4.alloc (.cells #[.int .i64 op, .string s, .int .i64 0] 25)) w.heap.size 25 (.int .i64 0) (.string ⟨#[]⟩) (.int .i64 0)) := HQ4.out.alloc _
  have HC5 : Hid (Cur (w4.alloc (.cells #[.int .i64 op, .string s, .int .i64 0] 25)) B c a len cap zs) := HC4.out.new _
  have HG5 : Hid (w.grownBy (w4.alloc (.cells #[.int .i64 op, .string s, .int .i64 0] 25)) (some c)) := gnew HG4.out _
  have hgw : w.heap.size < w4.heap.size := HQ4.out.lt
  go_wp2_with fail
  obtain ⟨w5, hw5⟩ : ∃ w5, w4.alloc (.cells #[.int .i64 op, .string s, .int .i64 0] 25) = w5 := ⟨_, rfl⟩
  rw [hw5] at HP5 HQ5 HC5 HG5 ⊢
  clear hw5 HQ4 HC4 HG4
  generalize w4.heap.size = g at *
  have hne : w.heap.size ≠ g := by omega
  refine (specMost_any op w5).mono ?_
  rintro e w6 ⟨rfl, hw6⟩
  subst hw6
  by_cases hm : mostR op < 0
  · have HN : Hid (reqB op s.data.toList 0 = true) := HB.out 0 (by rw [if_pos hm]; rfl)
    have hm' : ¬ (0 : Int) ≤ mostR op := by omega
    generalize mostR op = m at *
    obtain ⟨p0, p1, p2⟩ := HP5.out.cells
    obtain ⟨g0, g1, g2⟩ := HQ5.out.cells
    have f0 := HQ5.out.frozen 0
    have f1 := HQ5.out.frozen 1
    have f2 := HQ5.out.frozen 2
    have HE := (show Hid (Cur (((w6.setCell ⟨w.heap.size, 0, none⟩ (.int .i64 op)).setCell ⟨w.heap.size, 1, none⟩ (.string s)).setCell ⟨w.heap.size, 2, none⟩ (.int .i64 0)) B c a len cap zs ∧ w.grownBy (((w6.setCell ⟨w.heap.size, 0, none⟩ (.int .i64 op)).setCell ⟨w.heap.size, 1, none⟩ (.string s)).setCell ⟨w.heap.size, 2, none⟩ (.int .i64 0)) (some c)) from ⟨((HC5.out.put hcw _).put hcw _).put hcw _, gput (gput (gput HG5.out (Nat.le_refl _) _) (Nat.le_refl _) _) (Nat.le_refl _) _⟩)
    clear HP5 HQ5 HC5 HG5
    go_wp2
    refine bodyPost_ret (v := .agg #[.int .i64 op, .string s, .int .i64 0]) (by simp [results, Tryd.f16, go_sem, g0, g1, g2]) rfl ?_
    exact ⟨op, 0, s, rfl, HN.out, HS8.out, HE.out.1, HE.out.2⟩
  have hm' : (0 : Int) ≤ mostR op := by omega
  have HB2 : Hid (∀ n : Int, 0 ≤ n → n ≤ 1000000000 → reqB op s.data.toList n = true) := fun n h0 h1 => HB.out n (by
    rw [if_neg hm, decide_eq_true_eq]
    have : mostR op = 1000000000 ∨ mostR op = 4294967295 := by
      unfold mostR at hm ⊢
      split
      · exact .inl rfl
      · split
        · exact .inr rfl
        · rename_i h1 h2
          rw [if_neg h1, if_neg h2] at hm
          omega
    omega)
  have HB4 : Hid (op = 4 → reqB op s.data.toList 4294967295 = true) := fun h => HB.out _ (by subst h; decide)
  generalize mostR op = m at *
  have HC6 : Hid (Cur (w6.alloc (.cells #[.int .i64 0, .int .i64 5, .int .i64 24, .int .i64 100, .int .i64 1000000000] 3)) B c a len cap zs) := HC5.out.new _
  have HQ6 : Hid (Box3 (w6.alloc (.cells #[.int .i64 0, .int .i64 5, .int .i64 24, .int .i64 100, .int .i64 1000000000] 3)) w.heap.size 25 (.int .i64 0) (.string ⟨#[]⟩) (.int .i64 0)) := HQ5.out.alloc _
  have HP6 : Hid (Box3 (w6.alloc (.cells #[.int .i64 0, .int .i64 5, .int .i64 24, .int .i64 100, .int .i64 1000000000] 3)) g 25 (.int .i64 op) (.string s) (.int .i64 0)) := HP5.out.alloc _
  have HG6 : Hid (w.grownBy (w6.alloc (.cells #[.int .i64 0, .int .i64 5, .int .i64 24, .int .i64 100, .int .i64 1000000000] 3)) (some c)) := gnew HG5.out _
  have HL6 : Hid ((w6.alloc (.cells #[.int .i64 0, .int .i64 5, .int .i64 24, .int .i64 100, .int .i64 1000000000] 3)).heap[w6.heap.size]? = some (.cells (([0, 5, 24, 100, 1000000000] : List Int).map (Value.int .i64)).toArray 3 (0, 0))) := heap_alloc_new w6 _
  have hcg : c < w6.heap.size := HC5.out.lt
  go_wp2_with fail
  obtain ⟨w7, hw7⟩ : ∃ w7, w6.alloc (.cells #[.int .i64 0, .int .i64 5, .int .i64 24, .int .i64 100, .int .i64 1000000000] 3) = w7 := ⟨_, rfl⟩
  rw [hw7] at HC6 HQ6 HP6 HG6 HL6 ⊢
  clear hw7 HC5 HQ5 HP5 HG5
  generalize w6.heap.size = g6 at *
  refine (l1Int_any B c a len cap zs g6 5 5 [0, 5, 24, 100, 1000000000] w7 HC6.out hl HL6.out (by omega) rfl (by omega) (by omega)).mono ?_
  rintro e w8 ⟨n, rfl, hn, hc8, hg8⟩
  have HNb : Hid (0 ≤ n ∧ n ≤ 1000000000) := by
    show _ ∧ _
    simp only [List.mem_cons, List.not_mem_nil, or_false] at hn
    omega
  have HQ8 := (show Hid (Box3 w8 w.heap.size 25 (.int .i64 0) (.string ⟨#[]⟩) (.int .i64 0)) from HQ6.out.grown hg8 (fun e => by injection e with e; omega))
  have HP8 := (show Hid (Box3 w8 g 25 (.int .i64 op) (.string s) (.int .i64 0)) from HP6.out.grown hg8 (fun e => by injection e with e; omega))
  have HG8 : Hid (w.grownBy w8 (some c)) := gtrans HG6.out hg8
  have HC8 : Hid (Cur w8 B c a len cap zs) := hc8
  clear hn hc8 hg8 HQ6 HP6 HG6 HC6 HL6 hcg
  have HQ9 := (show Hid (Box3 (w8.setCell ⟨g, 2, none⟩ (.int .i64 n)) w.heap.size 25 (.int .i64 0) (.string ⟨#[]⟩) (.int .i64 0)) from box3_other HQ8.out hne)
  have HP9 := (show Hid (Box3 (w8.setCell ⟨g, 2, none⟩ (.int .i64 n)) g 25 (.int .i64 op) (.string s) (.int .i64 n)) from box3_set2 HP8.out _)
  have HC9 : Hid (Cur (w8.setCell ⟨g, 2, none⟩ (.int .i64 n)) B c a len cap zs) := HC8.out.put (by omega) _
  have HG9 : Hid (w.grownBy (w8.setCell ⟨g, 2, none⟩ (.int .i64 n)) (some c)) := gput HG8.out (by omega) _
  obtain ⟨p0, p1, p2⟩ := HP8.out.cells
  have z2 := HP8.out.frozen 2
  go_upto_region 4 with fail
  obtain ⟨w9, hw9⟩ : ∃ w9, w8.setCell ⟨g, 2, none⟩ (.int .i64 n) = w9 := ⟨_, rfl⟩
  rw [hw9] at HQ9 HP9 HC9 HG9 ⊢
  clear hw9 p0 p1 p2 z2 HQ8 HP8 HC8 HG8
  by_cases h4 : op = 4
  case neg =>
    have h4b : (op == 4) = false := by simpa using h4
    have HN : Hid (reqB op s.data.toList n = true) := HB2.out n HNb.out.1 HNb.out.2
    obtain ⟨p0, p1, p2⟩ := HP9.out.cells
    obtain ⟨g0, g1, g2⟩ := HQ9.out.cells
    have f0 := HQ9.out.frozen 0
    have f1 := HQ9.out.frozen 1
    have f2 := HQ9.out.frozen 2
    have HE := (show Hid (Cur (((w9.setCell ⟨w.heap.size, 0, none⟩ (.int .i64 op)).setCell ⟨w.heap.size, 1, none⟩ (.string s)).setCell ⟨w.heap.size, 2, none⟩ (.int .i64 n)) B c a len cap zs ∧ w.grownBy (((w9.setCell ⟨w.heap.size, 0, none⟩ (.int .i64 op)).setCell ⟨w.heap.size, 1, none⟩ (.string s)).setCell ⟨w.heap.size, 2, none⟩ (.int .i64 n)) (some c)) from ⟨((HC9.out.put hcw _).put hcw _).put hcw _, gput (gput (gput HG9.out (Nat.le_refl _) _) (Nat.le_refl _) _) (Nat.le_refl _) _⟩)
    clear HP9 HQ9 HC9 HG9
    go_wp2
    refine bodyPost_ret (v := .agg #[.int .i64 op, .string s, .int .i64 n]) (by simp [results, Tryd.f16, go_sem, g0, g1, g2]) rfl ?_
    exact ⟨op, n, s, rfl, HN.out, HS8.out, HE.out.1, HE.out.2⟩
  have h4b : (op == 4) = true := by simpa using h4
  have HN4 : Hid (reqB op s.data.toList 4294967295 = true) := HB4.out h4
  clear h4
  obtain ⟨p0, p1, p2⟩ := HP9.out.cells
  go_wp2_with fail
  refine (l1Once_any B c a len cap zs 2 w9 HC9.out hl (by omega) (by omega)).mono ?_
  rintro e w10 ⟨b, rfl, hc10, hg10⟩
  have HQ10 := (show Hid (Box3 w10 w.heap.size 25 (.int .i64 0) (.string ⟨#[]⟩) (.int .i64 0)) from HQ9.out.grown hg10 (fun e => by injection e with e; omega))
  have HP10 := (show Hid (Box3 w10 g 25 (.int .i64 op) (.string s) (.int .i64 n)) from HP9.out.grown hg10 (fun e => by injection e with e; omega))
  have HG10 : Hid (w.grownBy w10 (some c)) := gtrans HG9.out hg10
  have HC10 : Hid (Cur w10 B c a len cap zs) := hc10
  clear hc10 hg10 HQ9 HP9 HG9 HC9 p0 p1 p2
  cases b
  · have HN : Hid (reqB op s.data.toList n = true) := HB2.out n HNb.out.1 HNb.out.2
    obtain ⟨p0, p1, p2⟩ := HP10.out.cells
    obtain ⟨g0, g1, g2⟩ := HQ10.out.cells
    have f0 := HQ10.out.frozen 0
    have f1 := HQ10.out.frozen 1
    have f2 := HQ10.out.frozen 2
    have HE := (show Hid (Cur (((w10.setCell ⟨w.heap.size, 0, none⟩ (.int .i64 op)).setCell ⟨w.heap.size, 1, none⟩ (.string s)).setCell ⟨w.heap.size, 2, none⟩ (.int .i64 n)) B c a len cap zs ∧ w.grownBy (((w10.setCell ⟨w.heap.size, 0, none⟩ (.int .i64 op)).setCell ⟨w.heap.size, 1, none⟩ (.string s)).setCell ⟨w.heap.size, 2, none⟩ (.int .i64 n)) (some c)) from ⟨((HC10.out.put hcw _).put hcw _).put hcw _, gput (gput (gput HG10.out (Nat.le_refl _) _) (Nat.le_refl _) _) (Nat.le_refl _) _⟩)
    clear HP10 HQ10 HC10 HG10
    go_wp2
    refine bodyPost_ret (v := .agg #[.int .i64 op, .string s, .int .i64 n]) (by simp [results, Tryd.f16, go_sem, g0, g1, g2]) rfl ?_
    exact ⟨op, n, s, rfl, HN.out, HS8.out, HE.out.1, HE.out.2⟩
  have HQ11 := (show Hid (Box3 (w10.setCell ⟨g, 2, none⟩ (.int .i64 4294967295)) w.heap.size 25 (.int .i64 0) (.string ⟨#[]⟩) (.int .i64 0)) from box3_other HQ10.out hne)
  have HP11 := (show Hid (Box3 (w10.setCell ⟨g, 2, none⟩ (.int .i64 4294967295)) g 25 (.int .i64 op) (.string s) (.int .i64 4294967295)) from box3_set2 HP10.out _)
  have HC11 : Hid (Cur (w10.setCell ⟨g, 2, none⟩ (.int .i64 4294967295)) B c a len cap zs) := HC10.out.put (by omega) _
  have HG11 : Hid (w.grownBy (w10.setCell ⟨g, 2, none⟩ (.int .i64 4294967295)) (some c)) := gput HG10.out (by omega) _
  obtain ⟨p0, p1, p2⟩ := HP10.out.cells
  have z2 := HP10.out.frozen 2
  go_upto_region 6 with fail
  obtain ⟨w11, hw11⟩ : ∃ w11, w10.setCell ⟨g, 2, none⟩ (.int .i64 4294967295) = w11 := ⟨_, rfl⟩
  rw [hw11] at HQ11 HP11 HC11 HG11 ⊢
  clear hw11 p0 p1 p2 z2 HQ10 HP10 HC10 HG10
  obtain ⟨p0, p1, p2⟩ := HP11.out.cells
  obtain ⟨g0, g1, g2⟩ := HQ11.out.cells
  have f0 := HQ11.out.frozen 0
  have f1 := HQ11.out.frozen 1
  have f2 := HQ11.out.frozen 2
  have HE := (show Hid (Cur (((w11.setCell ⟨w.heap.size, 0, none⟩ (.int .i64 op)).setCell ⟨w.heap.size, 1, none⟩ (.string s)).setCell ⟨w.heap.size, 2, none⟩ (.int .i64 4294967295)) B c a len cap zs ∧ w.grownBy (((w11.setCell ⟨w.heap.size, 0, none⟩ (.int .i64 op)).setCell ⟨w.heap.size, 1, none⟩ (.string s)).setCell ⟨w.heap.size, 2, none⟩ (.int .i64 4294967295)) (some c)) from ⟨((HC11.out.put hcw _).put hcw _).put hcw _, gput (gput (gput HG11.out (Nat.le_refl _) _) (Nat.le_refl _) _) (Nat.le_refl _) _⟩)
  clear HP11 HQ11 HC11 HG11
  go_wp2
  refine bodyPost_ret (v := .agg #[.int .i64 op, .string s, .int .i64 4294967295]) (by simp [results, Tryd.f16, go_sem, g0, g1, g2]) rfl ?_
  exact ⟨op, 4294967295, s, rfl, HN4.out, HS8.out, HE.out.1, HE.out.2⟩

end Go.Proofs.YthojijhafhnclaeDoor
