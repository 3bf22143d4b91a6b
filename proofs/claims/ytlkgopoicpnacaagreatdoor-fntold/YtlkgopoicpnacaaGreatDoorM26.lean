/- The draw of a request that is right. For codes of at most 2^40 bytes. Bytes that are drawn. For codes of at most 2^40 bytes. Drawn bytes, as many as a length of thirty bits tells. For codes of at most 2^40 bytes. A request that is drawn: of an upload of the drawn store, with bytes of its own. For codes of at most 2^40 bytes. -/
import Derived.Test.YtlkgopoicpnacaaGreatDoorM25
import Derived.Test.YtlkgopoicpnacaaGreatDoorM25
import Derived.Test.YtlkgopoicpnacaaGreatDoorM25
import Derived.Test.YtlkgopoicpnacaaGreatDoorM04
import Derived.Deep.CutBlock
import Derived.Deep.RegionHeld3
import Derived.Test.YtlkgopoicpnacaaGreatDoorM17
import Derived.Test.YtlkgopoicpnacaaGreatDoorM12
import Derived.Test.YtlkgopoicpnacaaGreatDoorM03
import Derived.Test.YtlkgopoicpnacaaGreatDoorM19
namespace Go.Proofs.YtlkgopoicpnacaaGreatDoor
open Go.RowKit
set_option linter.unusedVariables false

def idsL : List ByteArray := [⟨#[97]⟩, ⟨#[98]⟩, ⟨#[117, 112, 49]⟩, ⟨#[101, 105, 103, 104, 116, 108, 101, 116]⟩]

theorem idsL_ok : ∀ s ∈ idsL, idB s.data.toList = true := by decide

set_option maxRecDepth 10000 in
set_option maxHeartbeats 3200000 in
theorem l11Req_any (B c : Nat) (a : Option Addr) (len cap : Nat) (zs : List Int) (w : World) (hcur : Cur w B c a len cap zs) (hl : len ≤ 1099511627776) :
    Calls Tryz.prog 53 #[.pointer (some ⟨c, 0, none⟩)] w fun e w' => ∃ (op n : Int) (s : ByteArray), e = .returned (.agg #[.int .i64 op, .string s, .int .i64 n]) ∧ reqB op s.data.toList n = true ∧ s.size ≤ 8 ∧ Cur w' B c a len cap zs ∧ w.grownBy w' (some c) := by
  have HC : Hid (Cur w B c a len cap zs) := hcur
  clear hcur
  go_enter Tryz.func53, Tryz.ntmps53
  have hcw : c < w.heap.size := HC.out.lt
  have HQ1 : Hid (Box3 (w.alloc (.cells #[.int .i64 0, .string ⟨#[]⟩, .int .i64 0] 74)) w.heap.size 74 (.int .i64 0) (.string ⟨#[]⟩) (.int .i64 0)) := Box3.new _ _ _ _ _
  have HC1 : Hid (Cur (w.alloc (.cells #[.int .i64 0, .string ⟨#[]⟩, .int .i64 0] 74)) B c a len cap zs) := HC.out.new _
  have HG1 : Hid (w.grownBy (w.alloc (.cells #[.int .i64 0, .string ⟨#[]⟩, .int .i64 0] 74)) (some c)) := gnew ⟨rfl, rfl, rfl, Nat.le_refl _, fun _ _ _ => rfl⟩ _
  go_wp2_with fail
  obtain ⟨w1, hw1⟩ : ∃ w1, w.alloc (.cells #[.int .i64 0, .string ⟨#[]⟩, .int .i64 0] 74) = w1 := ⟨_, rfl⟩
  rw [hw1] at HQ1 HC1 HG1 ⊢
  clear hw1 HC
  refine (l1Below_any B c a len cap zs 6 w1 HC1.out hl (by omega) (by omega)).mono ?_
  rintro e w2 ⟨x, rfl, hx0, hx1, hc2, hg2⟩
  obtain ⟨k, rfl⟩ := Int.eq_ofNat_of_zero_le hx0
  have HQ2 := (show Hid (Box3 w2 w.heap.size 74 (.int .i64 0) (.string ⟨#[]⟩) (.int .i64 0)) from HQ1.out.grown hg2 (fun e => by injection e with e; omega))
  have HG2 : Hid (w.grownBy w2 (some c)) := gtrans HG1.out hg2
  have HC2 : Hid (Cur w2 B c a len cap zs) := hc2
  clear hc2 hg2 HQ1 HC1 HG1
  have HC3 : Hid (Cur (w2.alloc (.cells #[.string ⟨#[97]⟩, .string ⟨#[98]⟩, .string ⟨#[117, 112, 49]⟩, .string ⟨#[101, 105, 103, 104, 116, 108, 101, 116]⟩] 9)) B c a len cap zs) := HC2.out.new _
  have HQ3 : Hid (Box3 (w2.alloc (.cells #[.string ⟨#[97]⟩, .string ⟨#[98]⟩, .string ⟨#[117, 112, 49]⟩, .string ⟨#[101, 105, 103, 104, 116, 108, 101, 116]⟩] 9)) w.heap.size 74 (.int .i64 0) (.string ⟨#[]⟩) (.int .i64 0)) := HQ2.out.alloc _
  have HG3 : Hid (w.grownBy (w2.alloc (.cells #[.string ⟨#[97]⟩, .string ⟨#[98]⟩, .string ⟨#[117, 112, 49]⟩, .string ⟨#[101, 105, 103, 104, 116, 108, 101, 116]⟩] 9)) (some c)) := gnew HG2.out _
  have HL3 : Hid ((w2.alloc (.cells #[.string ⟨#[97]⟩, .string ⟨#[98]⟩, .string ⟨#[117, 112, 49]⟩, .string ⟨#[101, 105, 103, 104, 116, 108, 101, 116]⟩] 9)).heap[w2.heap.size]? = some (.cells (idsL.map Value.string).toArray 9 (0, 0))) := heap_alloc_new w2 _
  have hc2w : c < w2.heap.size := HC2.out.lt
  go_wp2_with fail
  obtain ⟨w3, hw3⟩ : ∃ w3, w2.alloc (.cells #[.string ⟨#[97]⟩, .string ⟨#[98]⟩, .string ⟨#[117, 112, 49]⟩, .string ⟨#[101, 105, 103, 104, 116, 108, 101, 116]⟩] 9) = w3 := ⟨_, rfl⟩
  rw [hw3] at HQ3 HC3 HG3 HL3 ⊢
  clear hw3 HQ2 HC2 HG2
  generalize w2.heap.size = g2 at *
  refine (l1Str_any B c a len cap zs g2 4 4 idsL w3 HC3.out hl HL3.out (by omega) rfl (by omega) (by omega)).mono ?_
  rintro e w4 ⟨s, rfl, hs, hc4, hg4⟩
  have HQ4 := (show Hid (Box3 w4 w.heap.size 74 (.int .i64 0) (.string ⟨#[]⟩) (.int .i64 0)) from HQ3.out.grown hg4 (fun e => by injection e with e; omega))
  have HG4 : Hid (w.grownBy w4 (some c)) := gtrans HG3.out hg4
  have HC4 : Hid (Cur w4 B c a len cap zs) := hc4
  have HId : Hid (idB s.data.toList = true) := idsL_ok s hs
  have HS8 : Hid (s.size ≤ 8) := by
    have h := idsL_ok s hs
    simp only [idB, Bool.and_eq_true, decide_eq_true_eq] at h
    have := h.2.2
    rw [Array.length_toList] at this
    exact this
  clear hc4 hg4 HQ3 HC3 HG3 HL3 hs hc2w
  obtain ⟨op, hop⟩ : ∃ op : Int, (1 : Int) + (k : Int) = op := ⟨_, rfl⟩
  have ho1 : 1 ≤ op := by omega
  have ho6 : op ≤ 6 := by omega
  rw [hop]
  have HB : Hid (∀ n : Int, (if mostR op < 0 then n == 0 else decide (0 ≤ n ∧ n ≤ mostR op)) = true → reqB op s.data.toList n = true) := fun n hn => by
    rw [reqB, HId.out, hn, decide_eq_true ⟨ho1, ho6⟩]
    rfl
  clear hop hx0 hx1
  have HP5 : Hid (Box3 (w4.alloc (.cells #[.int .i64 op, .string s, .int .i64 0] 74)) w4.heap.size 74 (.int .i64 op) (.string s) (.int .i64 0)) := Box3.new _ _ _ _ _
  have HQ5 : Hid (Box3 (w4.alloc (.cells #[.int .i64 op, .string s, .int .i64 0] 74)) w.heap.size 74 (.int .i64 0) (.string ⟨#[]⟩) (.int .i64 0)) := HQ4.out.alloc _
  have HC5 : Hid (Cur (w4.alloc (.cells #[.int .i64 op, .string s, .int .i64 0] 74)) B c a len cap zs) := HC4.out.new _
  have HG5 : Hid (w.grownBy (w4.alloc (.cells #[.int .i64 op, .string s, .int .i64 0] 74)) (some c)) := gnew HG4.out _
  have hgw : w.heap.size < w4.heap.size := HQ4.out.lt
  go_wp2_with fail
  obtain ⟨w5, hw5⟩ : ∃ w5, w4.alloc (.cells #[.int .i64 op, .string s, .int .i64 0] 74) = w5 := ⟨_, rfl⟩
  rw [hw5] at HP5 HQ5 HC5 HG5 ⊢
  clear hw5 HQ4 HC4 HG4
  generalize w4.heap.size = g at *
  have hne : w.heap.size ≠ g := by omega
  refine (specMost_any op w5).mono ?_
  rintro e w6 ⟨rfl, hw6⟩
  subst hw6
  by_cases hm : mostR op < 0
  · have HN : Hid (reqB op s.data.toList 0 = true) := HB.out 0 (by rw [if_pos hm]; rfl)
    have hm' : ¬ (0 : Int) ≤ mostR op := by omega
    generalize mostR op = m at *
    obtain ⟨p0, p1, p2⟩ := HP5.out.cells
    obtain ⟨g0, g1, g2⟩ := HQ5.out.cells
    have f0 := HQ5.out.frozen 0
    have f1 := HQ5.out.frozen 1
    have f2 := HQ5.out.frozen 2
    have HE := (show Hid (Cur (((w6.setCell ⟨w.heap.size, 0, none⟩ (.int .i64 op)).setCell ⟨w.heap.size, 1, none⟩ (.string s)).setCell ⟨w.heap.size, 2, none⟩ (.int .i64 0)) B c a len cap zs ∧ w.grownBy (((w6.setCell ⟨w.heap.size, 0, none⟩ (.int .i64 op)).setCell ⟨w.heap.size, 1, none⟩ (.string s)).setCell ⟨w.heap.size, 2, none⟩ (.int .i64 0)) (some c)) from ⟨((HC5.out.put hcw _).put hcw _).put hcw _, gput (gput (gput HG5.out (Nat.le_refl _) _) (Nat.le_refl _) _) (Nat.le_refl _) _⟩)
    clear HP5 HQ5 HC5 HG5
    go_wp2
    refine bodyPost_ret (v := .agg #[.int .i64 op, .string s, .int .i64 0]) (by simp [results, Tryz.f53, go_sem, g0, g1, g2]) rfl ?_
    exact ⟨op, 0, s, rfl, HN.out, HS8.out, HE.out.1, HE.out.2⟩
  have hm' : (0 : Int) ≤ mostR op := by omega
  have HB2 : Hid (∀ n : Int, 0 ≤ n → n ≤ 1000000000 → reqB op s.data.toList n = true) := fun n h0 h1 => HB.out n (by
    rw [if_neg hm, decide_eq_true_eq]
    have : mostR op = 1000000000 ∨ mostR op = 4294967295 := by
      unfold mostR at hm ⊢
      split
      · exact .inl rfl
      · split
        · exact .inr rfl
        · rename_i h1 h2
          rw [if_neg h1, if_neg h2] at hm
          omega
    omega)
  have HB4 : Hid (op = 4 → reqB op s.data.toList 4294967295 = true) := fun h => HB.out _ (by subst h; decide)
  generalize mostR op = m at *
  have HC6 : Hid (Cur (w6.alloc (.cells #[.int .i64 0, .int .i64 5, .int .i64 24, .int .i64 100, .int .i64 1000000000] 3)) B c a len cap zs) := HC5.out.new _
  have HQ6 : Hid (Box3 (w6.alloc (.cells #[.int .i64 0, .int .i64 5, .int .i64 24, .int .i64 100, .int .i64 1000000000] 3)) w.heap.size 74 (.int .i64 0) (.string ⟨#[]⟩) (.int .i64 0)) := HQ5.out.alloc _
  have HP6 : Hid (Box3 (w6.alloc (.cells #[.int .i64 0, .int .i64 5, .int .i64 24, .int .i64 100, .int .i64 1000000000] 3)) g 74 (.int .i64 op) (.string s) (.int .i64 0)) := HP5.out.alloc _
  have HG6 : Hid (w.grownBy (w6.alloc (.cells #[.int .i64 0, .int .i64 5, .int .i64 24, .int .i64 100, .int .i64 1000000000] 3)) (some c)) := gnew HG5.out _
  have HL6 : Hid ((w6.alloc (.cells #[.int .i64 0, .int .i64 5, .int .i64 24, .int .i64 100, .int .i64 1000000000] 3)).heap[w6.heap.size]? = some (.cells (([0, 5, 24, 100, 1000000000] : List Int).map (Value.int .i64)).toArray 3 (0, 0))) := heap_alloc_new w6 _
  have hcg : c < w6.heap.size := HC5.out.lt
  go_wp2_with fail
  obtain ⟨w7, hw7⟩ : ∃ w7, w6.alloc (.cells #[.int .i64 0, .int .i64 5, .int .i64 24, .int .i64 100, .int .i64 1000000000] 3) = w7 := ⟨_, rfl⟩
  rw [hw7] at HC6 HQ6 HP6 HG6 HL6 ⊢
  clear hw7 HC5 HQ5 HP5 HG5
  generalize w6.heap.size = g6 at *
  refine (l1Int_any B c a len cap zs g6 5 5 [0, 5, 24, 100, 1000000000] w7 HC6.out hl HL6.out (by omega) rfl (by omega) (by omega)).mono ?_
  rintro e w8 ⟨n, rfl, hn, hc8, hg8⟩
  have HNb : Hid (0 ≤ n ∧ n ≤ 1000000000) := by
    show _ ∧ _
    simp only [List.mem_cons, List.not_mem_nil, or_false] at hn
    omega
  have HQ8 := (show Hid (Box3 w8 w.heap.size 74 (.int .i64 0) (.string ⟨#[]⟩) (.int .i64 0)) from HQ6.out.grown hg8 (fun e => by injection e with e; omega))
  have HP8 := (show Hid (Box3 w8 g 74 (.int .i64 op) (.string s) (.int .i64 0)) from HP6.out.grown hg8 (fun e => by injection e with e; omega))
  have HG8 : Hid (w.grownBy w8 (some c)) := gtrans HG6.out hg8
  have HC8 : Hid (Cur w8 B c a len cap zs) := hc8
  clear hn hc8 hg8 HQ6 HP6 HG6 HC6 HL6 hcg
  have HQ9 := (show Hid (Box3 (w8.setCell ⟨g, 2, none⟩ (.int .i64 n)) w.heap.size 74 (.int .i64 0) (.string ⟨#[]⟩) (.int .i64 0)) from box3_other HQ8.out hne)
  have HP9 := (show Hid (Box3 (w8.setCell ⟨g, 2, none⟩ (.int .i64 n)) g 74 (.int .i64 op) (.string s) (.int .i64 n)) from box3_set2 HP8.out _)
  have HC9 : Hid (Cur (w8.setCell ⟨g, 2, none⟩ (.int .i64 n)) B c a len cap zs) := HC8.out.put (by omega) _
  have HG9 : Hid (w.grownBy (w8.setCell ⟨g, 2, none⟩ (.int .i64 n)) (some c)) := gput HG8.out (by omega) _
  obtain ⟨p0, p1, p2⟩ := HP8.out.cells
  have z2 := HP8.out.frozen 2
  go_upto_region 4 with fail
  obtain ⟨w9, hw9⟩ : ∃ w9, w8.setCell ⟨g, 2, none⟩ (.int .i64 n) = w9 := ⟨_, rfl⟩
  rw [hw9] at HQ9 HP9 HC9 HG9 ⊢
  clear hw9 p0 p1 p2 z2 HQ8 HP8 HC8 HG8
  by_cases h4 : op = 4
  case neg =>
    have h4b : (op == 4) = false := by simpa using h4
    have HN : Hid (reqB op s.data.toList n = true) := HB2.out n HNb.out.1 HNb.out.2
    obtain ⟨p0, p1, p2⟩ := HP9.out.cells
    obtain ⟨g0, g1, g2⟩ := HQ9.out.cells
    have f0 := HQ9.out.frozen 0
    have f1 := HQ9.out.frozen 1
    have f2 := HQ9.out.frozen 2
    have HE := (show Hid (Cur (((w9.setCell ⟨w.heap.size, 0, none⟩ (.int .i64 op)).setCell ⟨w.heap.size, 1, none⟩ (.string s)).setCell ⟨w.heap.size, 2, none⟩ (.int .i64 n)) B c a len cap zs ∧ w.grownBy (((w9.setCell ⟨w.heap.size, 0, none⟩ (.int .i64 op)).setCell ⟨w.heap.size, 1, none⟩ (.string s)).setCell ⟨w.heap.size, 2, none⟩ (.int .i64 n)) (some c)) from ⟨((HC9.out.put hcw _).put hcw _).put hcw _, gput (gput (gput HG9.out (Nat.le_refl _) _) (Nat.le_refl _) _) (Nat.le_refl _) _⟩)
    clear HP9 HQ9 HC9 HG9
    go_wp2
    refine bodyPost_ret (v := .agg #[.int .i64 op, .string s, .int .i64 n]) (by simp [results, Tryz.f53, go_sem, g0, g1, g2]) rfl ?_
    exact ⟨op, n, s, rfl, HN.out, HS8.out, HE.out.1, HE.out.2⟩
  have h4b : (op == 4) = true := by simpa using h4
  have HN4 : Hid (reqB op s.data.toList 4294967295 = true) := HB4.out h4
  clear h4
  obtain ⟨p0, p1, p2⟩ := HP9.out.cells
  go_wp2_with fail
  refine (l1Once_any B c a len cap zs 2 w9 HC9.out hl (by omega) (by omega)).mono ?_
  rintro e w10 ⟨b, rfl, hc10, hg10⟩
  have HQ10 := (show Hid (Box3 w10 w.heap.size 74 (.int .i64 0) (.string ⟨#[]⟩) (.int .i64 0)) from HQ9.out.grown hg10 (fun e => by injection e with e; omega))
  have HP10 := (show Hid (Box3 w10 g 74 (.int .i64 op) (.string s) (.int .i64 n)) from HP9.out.grown hg10 (fun e => by injection e with e; omega))
  have HG10 : Hid (w.grownBy w10 (some c)) := gtrans HG9.out hg10
  have HC10 : Hid (Cur w10 B c a len cap zs) := hc10
  clear hc10 hg10 HQ9 HP9 HG9 HC9 p0 p1 p2
  cases b
  · have HN : Hid (reqB op s.data.toList n = true) := HB2.out n HNb.out.1 HNb.out.2
    obtain ⟨p0, p1, p2⟩ := HP10.out.cells
    obtain ⟨g0, g1, g2⟩ := HQ10.out.cells
    have f0 := HQ10.out.frozen 0
    have f1 := HQ10.out.frozen 1
    have f2 := HQ10.out.frozen 2
    have HE := (show Hid (Cur (((w10.setCell ⟨w.heap.size, 0, none⟩ (.int .i64 op)).setCell ⟨w.heap.size, 1, none⟩ (.string s)).setCell ⟨w.heap.size, 2, none⟩ (.int .i64 n)) B c a len cap zs ∧ w.grownBy (((w10.setCell ⟨w.heap.size, 0, none⟩ (.int .i64 op)).setCell ⟨w.heap.size, 1, none⟩ (.string s)).setCell ⟨w.heap.size, 2, none⟩ (.int .i64 n)) (some c)) from ⟨((HC10.out.put hcw _).put hcw _).put hcw _, gput (gput (gput HG10.out (Nat.le_refl _) _) (Nat.le_refl _) _) (Nat.le_refl _) _⟩)
    clear HP10 HQ10 HC10 HG10
    go_wp2
    refine bodyPost_ret (v := .agg #[.int .i64 op, .string s, .int .i64 n]) (by simp [results, Tryz.f53, go_sem, g0, g1, g2]) rfl ?_
    exact ⟨op, n, s, rfl, HN.out, HS8.out, HE.out.1, HE.out.2⟩
  have HQ11 := (show Hid (Box3 (w10.setCell ⟨g, 2, none⟩ (.int .i64 4294967295)) w.heap.size 74 (.int .i64 0) (.string ⟨#[]⟩) (.int .i64 0)) from box3_other HQ10.out hne)
  have HP11 := (show Hid (Box3 (w10.setCell ⟨g, 2, none⟩ (.int .i64 4294967295)) g 74 (.int .i64 op) (.string s) (.int .i64 4294967295)) from box3_set2 HP10.out _)
  have HC11 : Hid (Cur (w10.setCell ⟨g, 2, none⟩ (.int .i64 4294967295)) B c a len cap zs) := HC10.out.put (by omega) _
  have HG11 : Hid (w.grownBy (w10.setCell ⟨g, 2, none⟩ (.int .i64 4294967295)) (some c)) := gput HG10.out (by omega) _
  obtain ⟨p0, p1, p2⟩ := HP10.out.cells
  have z2 := HP10.out.frozen 2
  go_upto_region 6 with fail
  obtain ⟨w11, hw11⟩ : ∃ w11, w10.setCell ⟨g, 2, none⟩ (.int .i64 4294967295) = w11 := ⟨_, rfl⟩
  rw [hw11] at HQ11 HP11 HC11 HG11 ⊢
  clear hw11 p0 p1 p2 z2 HQ10 HP10 HC10 HG10
  obtain ⟨p0, p1, p2⟩ := HP11.out.cells
  obtain ⟨g0, g1, g2⟩ := HQ11.out.cells
  have f0 := HQ11.out.frozen 0
  have f1 := HQ11.out.frozen 1
  have f2 := HQ11.out.frozen 2
  have HE := (show Hid (Cur (((w11.setCell ⟨w.heap.size, 0, none⟩ (.int .i64 op)).setCell ⟨w.heap.size, 1, none⟩ (.string s)).setCell ⟨w.heap.size, 2, none⟩ (.int .i64 4294967295)) B c a len cap zs ∧ w.grownBy (((w11.setCell ⟨w.heap.size, 0, none⟩ (.int .i64 op)).setCell ⟨w.heap.size, 1, none⟩ (.string s)).setCell ⟨w.heap.size, 2, none⟩ (.int .i64 4294967295)) (some c)) from ⟨((HC11.out.put hcw _).put hcw _).put hcw _, gput (gput (gput HG11.out (Nat.le_refl _) _) (Nat.le_refl _) _) (Nat.le_refl _) _⟩)
  clear HP11 HQ11 HC11 HG11
  go_wp2
  refine bodyPost_ret (v := .agg #[.int .i64 op, .string s, .int .i64 4294967295]) (by simp [results, Tryz.f53, go_sem, g0, g1, g2]) rfl ?_
  exact ⟨op, 4294967295, s, rfl, HN4.out, HS8.out, HE.out.1, HE.out.2⟩

end Go.Proofs.YtlkgopoicpnacaaGreatDoor

namespace Go.Proofs.YtlkgopoicpnacaaGreatDoor
open Go.RowKit
set_option linter.unusedVariables false

set_option maxRecDepth 10000 in
set_option maxHeartbeats 400000 in
theorem l1Bytes_any (B c : Nat) (a : Option Addr) (len cap : Nat) (zs : List Int) (n : Nat) (w : World) (hcur : Cur w B c a len cap zs) (hl : len ≤ 1099511627776) (hn2 : n ≤ 1000000) :
    Calls Tryz.prog 56 #[.pointer (some ⟨c, 0, none⟩), .int .i64 n] w fun e w' => ∃ g cp ys, e = .returned (.slice (some ⟨g, 0, none⟩) n cp) ∧ w.heap.size ≤ g ∧ Owns w' w.heap.size (some ⟨g, 0, none⟩) n cp ys ∧ Cur w' B c a len cap zs ∧ w.grownBy w' (some c) := by
  obtain ⟨i0, hi, hz0, hz1, hz2⟩ := info_parts Tryz.info5
  have hcl : c < w.heap.size := hcur.lt
  have HC : Hid (Cur (w.alloc (.cells #[] 5)) B c a len cap zs) := hcur.kept (World.grownBy_alloc w _ none) (by simp)
  have HB : Hid (B ≤ c) := hcur.1
  have HO : Hid ((w.alloc (.cells #[] 5)).ownsRow w.heap.size 5 1 (.slice (some ⟨w.heap.size, 0, none⟩) 0 0) 0 (([] : List Int).map (Value.int .u8))) := World.ownsRow_lit w #[] 0 (Nat.le_refl _) (Nat.zero_le _) rfl
  clear hcur
  go_enter Tryz.func56, Tryz.ntmps56
  go_wp2_with fail
  go_loopw [5, 6] (fun v i wr => ∃ (k g cp : Nat) (ys : List Int), k ≤ n ∧ i = .int .i64 k ∧ v = .slice (some ⟨g, 0, none⟩) k cp ∧ w.heap.size ≤ g ∧ Hid (wr.ownsRow w.heap.size 5 1 (.slice (some ⟨g, 0, none⟩) k cp) k (ys.map (Value.int .u8)) ∧ (∀ x ∈ ys, 0 ≤ x ∧ x ≤ 255)) ∧ Hid (Cur wr B c a len cap zs) ∧ Hid (w.grownBy wr (some c))) (fun _ i _ => n - (intOf i).toNat)
  case atStart => exact ⟨0, w.heap.size, 0, [], Nat.zero_le _, rfl, rfl, Nat.le_refl _, ⟨HO.out, by simp⟩, HC, World.grownBy_alloc w _ _⟩
  case round =>
    clear HO HC
    obtain ⟨k, g, cp, ys, hk, rfl, rfl, hgw, HO, HC, HG⟩ := hrel
    by_cases hlt : k < n
    · go_wp2_with fail
      refine (l1Byte_any B c a len cap zs _ HC.out hl).mono ?_
      rintro e w1 ⟨x, hx0, hx1, rfl, hc1, hg1⟩
      have hgc : ¬ g = c := by omega
      have HO1 : Hid (w1.ownsRow w.heap.size 5 1 (.slice (some ⟨g, 0, none⟩) k cp) k (ys.map (Value.int .u8))) := HO.out.1.kept hg1 (.inr (fun e => hgc (by simpa [Value.ownBlock] using e)))
      have HY : Hid (∀ x ∈ ys, 0 ≤ x ∧ x ≤ 255) := HO.out.2
      have HG1 : Hid (w.grownBy w1 (some c)) := gtrans HG.out hg1
      have HC1 : Hid (Cur w1 B c a len cap zs) := hc1
      have HN : Hid (∀ j u, [Value.int .u8 x][j]? = some u → (w1.alloc (.cells #[.int .u8 x] 5)).cell? ((⟨w1.heap.size, 0, none⟩ : Addr).add j) = some u) := one_new w1 x
      have hsz := HG1.out.size
      clear hc1 hg1 HO HC HG
      go_wp2_with (at_builtin; refine wpList_append_own _ rfl _ _ 22 rfl w.heap.size 5 i0 (.int .u8 0) 1 1 Tryz.underlying22 hi hz0 hz1 hz2 rfl (by decide) (.slice (some ⟨g, 0, none⟩) k cp) k _ rfl (HO1.out.alloc _) ⟨w1.heap.size, 0, none⟩ 1 1 [.int .u8 x] rfl rfl HN.out (ints_one [x]) (by unfold maxLen; omega) (by omega) (by simp; omega) ?_; intro v2 w2 hown2 hgrow2 hnil; refine Hid.out ?_)
      refine hidden ?_
      obtain ⟨g2, cp2, rfl, hg2⟩ := own_some5 hown2 (fun e => by have := (hnil.1 e).1; simp at this)
      have HO2 : Hid (w2.ownsRow w.heap.size 5 1 (.slice (some ⟨g2, 0, none⟩) (k + 1) cp2) (k + 1) ((ys ++ [x]).map (Value.int .u8)) ∧ (∀ z ∈ ys ++ [x], 0 ≤ z ∧ z ≤ 255)) := by
        refine ⟨by rw [List.map_append]; exact hown2, ?_⟩
        intro z hz
        rcases List.mem_append.1 hz with hz | hz
        · exact HY.out z hz
        · obtain rfl : z = x := by simpa using hz
          exact ⟨hx0, hx1⟩
      have hrow : ∀ j, (Value.slice (some ⟨g, 0, none⟩) k cp).ownBlock = some j → w.heap.size ≤ j ∧ j ≠ c := by
        intro j hj
        have : g = j := by simpa [Value.ownBlock] using hj
        omega
      have HG2 : Hid (w.grownBy w2 (some c)) := gown (gown HG1.out (World.grownBy_alloc w1 _ none) (by simp)) hgrow2 (fun j hj => (hrow j hj).1)
      have HC2 : Hid (Cur w2 B c a len cap zs) := (HC1.out.kept (World.grownBy_alloc w1 _ none) (by simp)).kept hgrow2 (fun j hj => ⟨by have := (hrow j hj).1; have := HB.out; omega, (hrow j hj).2⟩)
      clear hown2 hgrow2 hnil HO1 HC1 HG1 HN hrow
      go_wp2_with fail
      go_roundw
      case rel => exact ⟨k + 1, g2, cp2, ys ++ [x], by omega, by go_num, rfl, hg2, HO2, HC2, HG2⟩
      case measure => simp [intOf]; omega
    · have hkn : k = n := by omega
      subst hkn
      go_wp2_with fail
      go_ret
      exact ⟨g, cp, ys, rfl, hgw, ⟨HO.out.1, HO.out.2⟩, HC.out, HG.out⟩

end Go.Proofs.YtlkgopoicpnacaaGreatDoor

namespace Go.Proofs.YtlkgopoicpnacaaGreatDoor
open Go.RowKit
set_option linter.unusedVariables false

set_option maxRecDepth 10000 in
set_option maxHeartbeats 400000 in
theorem l1Bytes_big (B c : Nat) (a : Option Addr) (len cap : Nat) (zs : List Int) (n : Nat) (w : World) (hcur : Cur w B c a len cap zs) (hl : len ≤ 1099511627776) (hn2 : n ≤ 2000000000) :
    Calls Tryz.prog 56 #[.pointer (some ⟨c, 0, none⟩), .int .i64 n] w fun e w' => ∃ g cp ys, e = .returned (.slice (some ⟨g, 0, none⟩) n cp) ∧ w.heap.size ≤ g ∧ Owns w' w.heap.size (some ⟨g, 0, none⟩) n cp ys ∧ Cur w' B c a len cap zs ∧ w.grownBy w' (some c) := by
  obtain ⟨i0, hi, hz0, hz1, hz2⟩ := info_parts Tryz.info5
  have hcl : c < w.heap.size := hcur.lt
  have HC : Hid (Cur (w.alloc (.cells #[] 5)) B c a len cap zs) := hcur.kept (World.grownBy_alloc w _ none) (by simp)
  have HB : Hid (B ≤ c) := hcur.1
  have HO : Hid ((w.alloc (.cells #[] 5)).ownsRow w.heap.size 5 1 (.slice (some ⟨w.heap.size, 0, none⟩) 0 0) 0 (([] : List Int).map (Value.int .u8))) := World.ownsRow_lit w #[] 0 (Nat.le_refl _) (Nat.zero_le _) rfl
  clear hcur
  go_enter Tryz.func56, Tryz.ntmps56
  go_wp2_with fail
  go_loopw [5, 6] (fun v i wr => ∃ (k g cp : Nat) (ys : List Int), k ≤ n ∧ i = .int .i64 k ∧ v = .slice (some ⟨g, 0, none⟩) k cp ∧ w.heap.size ≤ g ∧ Hid (wr.ownsRow w.heap.size 5 1 (.slice (some ⟨g, 0, none⟩) k cp) k (ys.map (Value.int .u8)) ∧ (∀ x ∈ ys, 0 ≤ x ∧ x ≤ 255)) ∧ Hid (Cur wr B c a len cap zs) ∧ Hid (w.grownBy wr (some c))) (fun _ i _ => n - (intOf i).toNat)
  case atStart => exact ⟨0, w.heap.size, 0, [], Nat.zero_le _, rfl, rfl, Nat.le_refl _, ⟨HO.out, by simp⟩, HC, World.grownBy_alloc w _ _⟩
  case round =>
    clear HO HC
    obtain ⟨k, g, cp, ys, hk, rfl, rfl, hgw, HO, HC, HG⟩ := hrel
    by_cases hlt : k < n
    · go_wp2_with fail
      refine (l1Byte_any B c a len cap zs _ HC.out hl).mono ?_
      rintro e w1 ⟨x, hx0, hx1, rfl, hc1, hg1⟩
      have hgc : ¬ g = c := by omega
      have HO1 : Hid (w1.ownsRow w.heap.size 5 1 (.slice (some ⟨g, 0, none⟩) k cp) k (ys.map (Value.int .u8))) := HO.out.1.kept hg1 (.inr (fun e => hgc (by simpa [Value.ownBlock] using e)))
      have HY : Hid (∀ x ∈ ys, 0 ≤ x ∧ x ≤ 255) := HO.out.2
      have HG1 : Hid (w.grownBy w1 (some c)) := gtrans HG.out hg1
      have HC1 : Hid (Cur w1 B c a len cap zs) := hc1
      have HN : Hid (∀ j u, [Value.int .u8 x][j]? = some u → (w1.alloc (.cells #[.int .u8 x] 5)).cell? ((⟨w1.heap.size, 0, none⟩ : Addr).add j) = some u) := one_new w1 x
      have hsz := HG1.out.size
      clear hc1 hg1 HO HC HG
      go_wp2_with (at_builtin; refine wpList_append_own _ rfl _ _ 22 rfl w.heap.size 5 i0 (.int .u8 0) 1 1 Tryz.underlying22 hi hz0 hz1 hz2 rfl (by decide) (.slice (some ⟨g, 0, none⟩) k cp) k _ rfl (HO1.out.alloc _) ⟨w1.heap.size, 0, none⟩ 1 1 [.int .u8 x] rfl rfl HN.out (ints_one [x]) (by unfold maxLen; omega) (by omega) (by simp; omega) ?_; intro v2 w2 hown2 hgrow2 hnil; refine Hid.out ?_)
      refine hidden ?_
      obtain ⟨g2, cp2, rfl, hg2⟩ := own_some5 hown2 (fun e => by have := (hnil.1 e).1; simp at this)
      have HO2 : Hid (w2.ownsRow w.heap.size 5 1 (.slice (some ⟨g2, 0, none⟩) (k + 1) cp2) (k + 1) ((ys ++ [x]).map (Value.int .u8)) ∧ (∀ z ∈ ys ++ [x], 0 ≤ z ∧ z ≤ 255)) := by
        refine ⟨by rw [List.map_append]; exact hown2, ?_⟩
        intro z hz
        rcases List.mem_append.1 hz with hz | hz
        · exact HY.out z hz
        · obtain rfl : z = x := by simpa using hz
          exact ⟨hx0, hx1⟩
      have hrow : ∀ j, (Value.slice (some ⟨g, 0, none⟩) k cp).ownBlock = some j → w.heap.size ≤ j ∧ j ≠ c := by
        intro j hj
        have : g = j := by simpa [Value.ownBlock] using hj
        omega
      have HG2 : Hid (w.grownBy w2 (some c)) := gown (gown HG1.out (World.grownBy_alloc w1 _ none) (by simp)) hgrow2 (fun j hj => (hrow j hj).1)
      have HC2 : Hid (Cur w2 B c a len cap zs) := (HC1.out.kept (World.grownBy_alloc w1 _ none) (by simp)).kept hgrow2 (fun j hj => ⟨by have := (hrow j hj).1; have := HB.out; omega, (hrow j hj).2⟩)
      clear hown2 hgrow2 hnil HO1 HC1 HG1 HN hrow
      go_wp2_with fail
      go_roundw
      case rel => exact ⟨k + 1, g2, cp2, ys ++ [x], by omega, by go_num, rfl, hg2, HO2, HC2, HG2⟩
      case measure => simp [intOf]; omega
    · have hkn : k = n := by omega
      subst hkn
      go_wp2_with fail
      go_ret
      exact ⟨g, cp, ys, rfl, hgw, ⟨HO.out.1, HO.out.2⟩, HC.out, HG.out⟩


end Go.Proofs.YtlkgopoicpnacaaGreatDoor

namespace Go.Proofs.YtlkgopoicpnacaaGreatDoor
open Go.RowKit
set_option linter.unusedVariables false

theorem abcR_ne {x : ByteArray} (h : x ∈ ([⟨#[97]⟩, ⟨#[98]⟩, ⟨#[99]⟩] : List ByteArray)) : x ≠ newId ∧ x.size = 1 := by
  simp only [List.mem_cons, List.not_mem_nil, or_false] at h
  rcases h with rfl | rfl | rfl <;> exact ⟨by decide, rfl⟩

theorem owns_le {w : World} {base n cp : Nat} {a : Option Addr} {ys : List Int} (h : Owns w base a n cp ys) : n ≤ cp := by
  rcases h.1.2 with ⟨h0, _⟩ | ⟨g1, cap, cur, he, hg, hh, hr⟩
  · injection h0 with e1 e2 e3
    omega
  · injection he with e1 e2 e3
    subst e3
    omega

/-- The variables of a request's draw. -/
structure RqS (w W : World) (B c : Nat) (a : Option Addr) (len cap : Nat) (zs : List Int) (b6 b7 : Nat) (op : Int) (id : ByteArray) (rn : Int) (uid : ByteArray) (uw : Int) (UA : Option Addr) (Z UC : Nat) (ud : Bool) (uz : List Int) (da : Option Addr) (dl dc : Nat) (ds : List Int) : Prop where
  q1 : BoxN W (w.heap.size + 1) 74 [.int .i64 0, .string ⟨#[]⟩, .int .i64 0]
  q6 : BoxN W b6 74 [.int .i64 op, .string id, .int .i64 rn]
  q7 : BoxN W b7 64 [.string uid, .int .i64 uw, .slice UA Z UC, .bool ud]
  own : Owns W w.heap.size UA Z UC uz
  dat : Owns W w.heap.size da dl dc ds
  cur : Cur W B c a len cap zs
  grown : w.grownBy W (some c)
  cw : c < w.heap.size
  l6 : w.heap.size + 1 < b6
  l7 : b6 < b7

section
variable {w W W' : World} {B c : Nat} {a : Option Addr} {len cap : Nat} {zs : List Int} {b6 b7 : Nat} {op : Int} {id : ByteArray} {rn : Int} {uid : ByteArray} {uw : Int} {UA : Option Addr} {Z UC : Nat} {ud : Bool} {uz : List Int} {da : Option Addr} {dl dc : Nat} {ds : List Int}

theorem RqS.call (h : RqS w W B c a len cap zs b6 b7 op id rn uid uw UA Z UC ud uz da dl dc ds) (hc : Cur W' B c a len cap zs) (hg : W.grownBy W' (some c)) : RqS w W' B c a len cap zs b6 b7 op id rn uid uw UA Z UC ud uz da dl dc ds := by
  have h1 := h.cw
  have h6 := h.l6
  have h7 := h.l7
  exact ⟨h.q1.grown hg (fun e => by injection e with e; omega), h.q6.grown hg (fun e => by injection e with e; omega), h.q7.grown hg (fun e => by injection e with e; omega), h.own.grown hg (fun q e e2 => by injection e with e; have := (h.own.lt q e2).1; omega), h.dat.grown hg (fun q e e2 => by injection e with e; have := (h.dat.lt q e2).1; omega), hc, gtrans h.grown hg, h1, h6, h7⟩

theorem RqS.stays (h : RqS w W B c a len cap zs b6 b7 op id rn uid uw UA Z UC ud uz da dl dc ds) (hb : Below W.heap.size W W') : RqS w W' B c a len cap zs b6 b7 op id rn uid uw UA Z UC ud uz da dl dc ds :=
  ⟨h.q1.stays hb, h.q6.stays hb, h.q7.stays hb, h.own.below hb, h.dat.below hb, h.cur.kept (gbelow hb none) (by simp), gtrans h.grown (gbelow hb _), h.cw, h.l6, h.l7⟩

theorem RqS.new (h : RqS w W B c a len cap zs b6 b7 op id rn uid uw UA Z UC ud uz da dl dc ds) (o : Obj) : RqS w (W.alloc o) B c a len cap zs b6 b7 op id rn uid uw UA Z UC ud uz da dl dc ds := h.stays ((Below.refl _ _).alloc (Nat.le_refl _) _)

/-- Other bytes. -/
theorem RqS.data (h : RqS w W B c a len cap zs b6 b7 op id rn uid uw UA Z UC ud uz da dl dc ds) {d2 : Option Addr} {m2 c2 : Nat} {e2 : List Int} (hd : Owns W w.heap.size d2 m2 c2 e2) : RqS w W B c a len cap zs b6 b7 op id rn uid uw UA Z UC ud uz d2 m2 c2 e2 := ⟨h.q1, h.q6, h.q7, h.own, hd, h.cur, h.grown, h.cw, h.l6, h.l7⟩

/-- Another number. -/
theorem RqS.put (h : RqS w W B c a len cap zs b6 b7 op id rn uid uw UA Z UC ud uz da dl dc ds) (r2 : Int) : RqS w (W.setCell ⟨b6, 2, none⟩ (.int .i64 r2)) B c a len cap zs b6 b7 op id r2 uid uw UA Z UC ud uz da dl dc ds := by
  have h1 := h.cw
  have h6 := h.l6
  have h7 := h.l7
  exact ⟨h.q1.other (by omega) _, h.q6.set 2 _, h.q7.other (by omega) _, h.own.grown (gset W b6 2 _) (fun q e => by injection e with e; subst e; exact h.own.other h.q6 (by decide)), h.dat.grown (gset W b6 2 _) (fun q e => by injection e with e; subst e; exact h.dat.other h.q6 (by decide)), h.cur.put (by omega) _, gput h.grown (by omega) _, h1, h6, h7⟩

/-- The request is laid into the answer. -/
theorem RqS.done (h : RqS w W B c a len cap zs b6 b7 op id rn uid uw UA Z UC ud uz da dl dc ds) : Owns (((W.setCell ⟨w.heap.size + 1, 0, none⟩ (.int .i64 op)).setCell ⟨w.heap.size + 1, 1, none⟩ (.string id)).setCell ⟨w.heap.size + 1, 2, none⟩ (.int .i64 rn)) w.heap.size da dl dc ds ∧ Cur (((W.setCell ⟨w.heap.size + 1, 0, none⟩ (.int .i64 op)).setCell ⟨w.heap.size + 1, 1, none⟩ (.string id)).setCell ⟨w.heap.size + 1, 2, none⟩ (.int .i64 rn)) B c a len cap zs ∧ w.grownBy (((W.setCell ⟨w.heap.size + 1, 0, none⟩ (.int .i64 op)).setCell ⟨w.heap.size + 1, 1, none⟩ (.string id)).setCell ⟨w.heap.size + 1, 2, none⟩ (.int .i64 rn)) (some c) := by
  have h1 := h.cw
  have b0 := h.q1
  have b1 := b0.set 0 (.int .i64 op)
  have b2 := b1.set 1 (.string id)
  have d0 := h.dat
  have d1 := d0.grown (gset W (w.heap.size + 1) 0 (.int .i64 op)) (fun q e => by injection e with e; subst e; exact d0.other b0 (by decide))
  have d2 := d1.grown (gset _ (w.heap.size + 1) 1 (.string id)) (fun q e => by injection e with e; subst e; exact d1.other b1 (by decide))
  have d3 := d2.grown (gset _ (w.heap.size + 1) 2 (.int .i64 rn)) (fun q e => by injection e with e; subst e; exact d2.other b2 (by decide))
  exact ⟨d3, ((h.cur.put (by omega) _).put (by omega) _).put (by omega) _, gput (gput (gput h.grown (by omega) _) (by omega) _) (by omega) _⟩
end

set_option maxRecDepth 10000 in
set_option maxHeartbeats 6400000 in
theorem l15Req_ok (B c : Nat) (a : Option Addr) (len cap : Nat) (zs : List Int) (lo : Nat) (k : Int) (A : Option Addr) (n C : Nat) (X : List ByteArray) (A' : Option Addr) (n' C' : Nat) (Y : List ByteArray) (ep nx : Int) (ua : Option Addr) (un uc : Nat) (l : List UE) (w : World) (hcur : Cur w B c a len cap zs) (hl : len ≤ 1099511627776) (hst : StoAt w lo A n C X A' n' C' Y ua un uc l) (hsg : SG k X Y ep nx (l.map UE.u)) (hcl : c < lo) (hlw : lo ≤ w.heap.size) :
    Calls Tryz.prog 32 #[.pointer (some ⟨c, 0, none⟩), .agg #[.slice A n C, .slice A' n' C', .int .i64 ep, .int .i64 nx, .slice ua un uc]] w fun e w' => (∃ (op : Int) (id : ByteArray) (rn : Int) (da : Option Addr) (dl dc : Nat) (ds : List Int), e = .returned (.tuple #[.agg #[.int .i64 op, .string id, .int .i64 rn], .slice da dl dc]) ∧ (id ≠ newId ∧ id.size = 1) ∧ (-9223372036854775808 ≤ rn ∧ rn ≤ 4294967295) ∧ Owns w' w.heap.size da dl dc ds ∧ dl ≤ 1000000000) ∧ Cur w' B c a len cap zs ∧ w.grownBy w' (some c) := by
  have hmm : 1000000000 < maxLen := by decide
  have hp := hst.pre hsg.ok
  have hl1 : ∀ e ∈ l, e.n ≤ 1099511627776 := fun e he => by have := hp.2.2.2.2.2.2.2.2.1 e he; omega
  have hp8 := hp.2.2.2.2.2.2.2.1
  have HUp : Hid (∀ (W : World) (id : ByteArray), StoAt W lo A n C X A' n' C' Y ua un uc l → Calls Tryz.prog 55 #[.agg #[.slice A n C, .slice A' n' C', .int .i64 ep, .int .i64 nx, .slice ua un uc], .string id] W fun e w' => (∃ (uid : ByteArray) (uw : Int) (UA : Option Addr) (Z UC : Nat) (ud okb : Bool) (uz : List Int), e = .returned (.tuple #[.agg #[.string uid, .int .i64 uw, .slice UA Z UC, .bool ud], .bool okb]) ∧ Owns w' W.heap.size UA Z UC uz ∧ (0 ≤ uw ∧ uw ≤ 1000000000) ∧ Z ≤ 4800) ∧ Below W.heap.size W w') := fun W id hs => by
    have hq := hs.pre hsg.ok
    refine (specUpAt_any A n C A' n' C' ep nx ua un uc lo l id W hq.2.2.2.2.2.1 hq.2.2.2.2.2.2.1 (by omega) hl1).mono ?_
    rintro e w' ⟨⟨UA, UC, rfl, ho⟩, hb⟩
    refine ⟨⟨_, _, _, _, _, _, _, _, rfl, ho, ?_⟩, hb⟩
    cases ha : atU (l.map UE.u) id with
    | none =>
      rw [gotU_none ha]
      exact ⟨⟨by decide, by decide⟩, by decide⟩
    | some kk =>
      have hkl : kk < l.length := by simpa using (atU_is ha).1
      rw [gotU_some ha hkl]
      have hm := List.mem_map_of_mem (f := UE.u) (List.getElem_mem hkl)
      have h1 := hsg.ok.wants _ hm
      have h3 := (fold_small hsg.ok.1 hsg.ok.2.2.1).2 _ hm
      exact ⟨h1, h3⟩
  have HST : Hid (StoAt w lo A n C X A' n' C' Y ua un uc l) := hst
  have HCu : Hid (Cur w B c a len cap zs) := hcur
  have hcw : c < w.heap.size := by omega
  clear hp hl1 hp8 hst hcur
  obtain ⟨w0, hw0⟩ : ∃ w0, (w.alloc (.cells #[.slice A n C, .slice A' n' C', .int .i64 ep, .int .i64 nx, .slice ua un uc] 29)).alloc (.cells #[.int .i64 0, .string ⟨#[]⟩, .int .i64 0] 74) = w0 := ⟨_, rfl⟩
  have HE : Hid ((w.alloc (.cells #[.slice A n C, .slice A' n' C', .int .i64 ep, .int .i64 nx, .slice ua un uc] 29)).alloc (.cells #[.int .i64 0, .string ⟨#[]⟩, .int .i64 0] 74) = w0) := hw0
  have HB : Hid (Below w.heap.size w w0) := by show Below _ _ _; rw [← hw0]; exact (((Below.refl _ _).alloc (by exact Nat.le_refl _) _).alloc (by simp only [World.size_alloc]; omega) _)
  have HQ0 : Hid (BoxN w0 (w.heap.size) 29 [.slice A n C, .slice A' n' C', .int .i64 ep, .int .i64 nx, .slice ua un uc]) := by
    show BoxN _ _ _ _
    rw [← hw0]
    have := BoxN.new (w) 29 [.slice A n C, .slice A' n' C', .int .i64 ep, .int .i64 nx, .slice ua un uc]
    exact (this.alloc _)
  have HQ1 : Hid (BoxN w0 (w.heap.size + 1) 74 [.int .i64 0, .string ⟨#[]⟩, .int .i64 0]) := by
    show BoxN _ _ _ _
    rw [← hw0]
    have := BoxN.new (w.alloc (.cells #[.slice A n C, .slice A' n' C', .int .i64 ep, .int .i64 nx, .slice ua un uc] 29)) 74 [.int .i64 0, .string ⟨#[]⟩, .int .i64 0]
    simp only [World.size_alloc] at this
    exact this
  clear hw0
  have hsz : w.heap.size + 1 < w0.heap.size := HQ1.out.lt
  have HC0 : Hid (Cur w0 B c a len cap zs) := HCu.out.kept (gbelow HB.out none) (by simp)
  have HG0 : Hid (w.grownBy w0 (some c)) := gbelow HB.out _
  have HS0 : Hid (StoAt w0 lo A n C X A' n' C' Y ua un uc l) := HST.out.stays HB.out
  clear HB HST HCu
  go_enter Tryz.func32, Tryz.ntmps32
  go_upto_region 1 with fail
  rw [HE.out]
  clear HE
  go_wp2_with fail
  refine (l11Req_any B c a len cap zs w0 HC0.out hl).mono ?_
  rintro e y1 ⟨op, rn, id0, rfl, hrq, hids, hc1, hg1⟩
  have hrn : -9223372036854775808 ≤ rn ∧ rn ≤ 4294967295 := by
    simp only [reqB, Bool.and_eq_true, decide_eq_true_eq] at hrq
    have h2 := hrq.2
    have hm : mostR op ≤ 4294967295 := by rw [mostR]; split <;> (try split) <;> omega
    split at h2
    · have : rn = 0 := by simpa using h2
      omega
    · have : 0 ≤ rn ∧ rn ≤ mostR op := by simpa using h2
      omega
  have HRn : Hid (-9223372036854775808 ≤ rn ∧ rn ≤ 4294967295) := hrn
  obtain ⟨w2, hw2⟩ : ∃ w2, y1.alloc (.cells #[.int .i64 op, .string id0, .int .i64 rn] 74) = w2 := ⟨_, rfl⟩
  have HE2 : Hid (y1.alloc (.cells #[.int .i64 op, .string id0, .int .i64 rn] 74) = w2) := hw2
  have hb2 : Below y1.heap.size y1 w2 := by rw [← hw2]; exact (Below.refl _ _).alloc (Nat.le_refl _) _
  have hg2 : w0.grownBy w2 (some c) := gtrans hg1 (gbelow hb2 _)
  have HC2 : Hid (Cur w2 B c a len cap zs) := hc1.kept (gbelow hb2 none) (by simp)
  have HG2 : Hid (w.grownBy w2 (some c)) := gtrans HG0.out hg2
  have HS2 : Hid (StoAt w2 lo A n C X A' n' C' Y ua un uc l) := HS0.out.moved hg2 hcl
  have HQ02 : Hid (BoxN w2 w.heap.size 29 [.slice A n C, .slice A' n' C', .int .i64 ep, .int .i64 nx, .slice ua un uc]) := HQ0.out.grown hg2 (fun e => by injection e with e; omega)
  have HQ12 : Hid (BoxN w2 (w.heap.size + 1) 74 [.int .i64 0, .string ⟨#[]⟩, .int .i64 0]) := HQ1.out.grown hg2 (fun e => by injection e with e; omega)
  have HQ62 : Hid (BoxN w2 y1.heap.size 74 [.int .i64 op, .string id0, .int .i64 rn]) := by show BoxN _ _ _ _; rw [← hw2]; exact BoxN.new _ _ _
  have hs1 : w0.heap.size ≤ y1.heap.size := hg1.size
  clear hrq hids hc1 hg1 hrn hw2 hb2 hg2 HC0 HG0 HS0 HQ0 HQ1
  go_upto_region 2 with fail
  rw [HE2.out]
  clear HE2
  generalize y1.heap.size = b6 at *
  have h6w : b6 < w2.heap.size := HQ62.out.lt
  go_wp2_with fail
  refine (l1Str_any B c a len cap zs w2.heap.size 3 3 [⟨#[97]⟩, ⟨#[98]⟩, ⟨#[99]⟩] _ (HC2.out.new _) hl (heap_alloc_new w2 _) (by omega) rfl (by omega) (by omega)).mono ?_
  rintro e y3 ⟨id, rfl, hid, hc3, hg3⟩
  have HId : Hid (id ≠ newId ∧ id.size = 1) := abcR_ne hid
  have hg23 : w2.grownBy y3 (some c) := gtrans (World.grownBy_alloc w2 _ _) hg3
  have q6 : BoxN y3 b6 74 [.int .i64 op, .string id0, .int .i64 rn] := HQ62.out.grown hg23 (fun e => by injection e with e; omega)
  have q0 : BoxN y3 w.heap.size 29 [.slice A n C, .slice A' n' C', .int .i64 ep, .int .i64 nx, .slice ua un uc] := HQ02.out.grown hg23 (fun e => by injection e with e; omega)
  have q1 : BoxN y3 (w.heap.size + 1) 74 [.int .i64 0, .string ⟨#[]⟩, .int .i64 0] := HQ12.out.grown hg23 (fun e => by injection e with e; omega)
  have d1 := q6.cell 1 rfl
  have f1 := q6.frozen 1
  obtain ⟨w3, hw3⟩ : ∃ w3, y3.setCell ⟨b6, 1, none⟩ (.string id) = w3 := ⟨_, rfl⟩
  have HE3 : Hid (y3.setCell ⟨b6, 1, none⟩ (.string id) = w3) := hw3
  have HQ63 : Hid (BoxN w3 b6 74 [.int .i64 op, .string id, .int .i64 rn]) := by show BoxN _ _ _ _; rw [← hw3]; exact q6.set 1 (.string id)
  have HQ03 : Hid (BoxN w3 w.heap.size 29 [.slice A n C, .slice A' n' C', .int .i64 ep, .int .i64 nx, .slice ua un uc]) := by show BoxN _ _ _ _; rw [← hw3]; exact q0.other (by omega) _
  have HQ13 : Hid (BoxN w3 (w.heap.size + 1) 74 [.int .i64 0, .string ⟨#[]⟩, .int .i64 0]) := by show BoxN _ _ _ _; rw [← hw3]; exact q1.other (by omega) _
  have HC3 : Hid (Cur w3 B c a len cap zs) := by show Cur _ _ _ _ _ _ _; rw [← hw3]; exact hc3.put (by omega) _
  have HG3 : Hid (w.grownBy w3 (some c)) := by show World.grownBy _ _ _; rw [← hw3]; exact gput (gtrans HG2.out hg23) (by omega) _
  have HS3 : Hid (StoAt w3 lo A n C X A' n' C' Y ua un uc l) := by show StoAt _ _ _ _ _ _ _ _ _ _ _ _ _ _; rw [← hw3]; exact (HS2.out.moved hg23 hcl).setBox q6 _
  clear hid hc3 hg3 hg23 q6 q0 q1 hw3 HC2 HG2 HS2 HQ02 HQ12 HQ62 h6w
  go_upto_region 3 with fail
  rw [HE3.out]
  clear HE3 d1 f1
  have g0 := HQ03.out.cell 0 rfl
  have g1 := HQ03.out.cell 1 rfl
  have g2 := HQ03.out.cell 2 rfl
  have g3 := HQ03.out.cell 3 rfl
  have g4 := HQ03.out.cell 4 rfl
  have g6 := HQ63.out.cell 1 rfl
  go_wp2_with fail
  refine (HUp.out w3 id HS3.out).mono ?_
  rintro e y4 ⟨⟨uid, uw, UA, Z, UC, ud, okb, uz, rfl, hown, huw, hZ⟩, hb4⟩
  clear g0 g1 g2 g3 g4 g6
  obtain ⟨w4, hw4⟩ : ∃ w4, y4.alloc (.cells #[.string uid, .int .i64 uw, .slice UA Z UC, .bool ud] 64) = w4 := ⟨_, rfl⟩
  have HE4 : Hid (y4.alloc (.cells #[.string uid, .int .i64 uw, .slice UA Z UC, .bool ud] 64) = w4) := hw4
  have hb44 : Below y4.heap.size y4 w4 := by rw [← hw4]; exact (Below.refl _ _).alloc (Nat.le_refl _) _
  have hb34 : Below w3.heap.size w3 w4 := hb4.trans (hb44.mono hb4.size)
  have hq7 : BoxN w4 y4.heap.size 64 [.string uid, .int .i64 uw, .slice UA Z UC, .bool ud] := by rw [← hw4]; exact BoxN.new _ _ _
  have hb45 : Below w4.heap.size w4 (w4.alloc (.cells #[] 5)) := (Below.refl _ _).alloc (Nat.le_refl _) _
  have h36 : b6 < w3.heap.size := HQ63.out.lt
  have h4w : w.heap.size ≤ w3.heap.size := HG3.out.size
  have HD5 : Hid (RqS w (w4.alloc (.cells #[] 5)) B c a len cap zs b6 y4.heap.size op id rn uid uw UA Z UC ud uz (some ⟨w4.heap.size, 0, none⟩) 0 0 []) :=
    ⟨(HQ13.out.stays hb34).stays hb45, (HQ63.out.stays hb34).stays hb45, hq7.stays hb45, ((hown.below hb44).below hb45).low h4w, Owns.low (⟨World.ownsRow_lit w4 #[] 0 (Nat.le_refl _) (Nat.zero_le _) rfl, by simp⟩ : Owns (w4.alloc (.cells #[] 5)) w4.heap.size (some ⟨w4.heap.size, 0, none⟩) 0 0 []) (Nat.le_trans h4w hb34.size), (HC3.out.kept (gbelow hb34 none) (by simp)).new _, gnew (gtrans HG3.out (gbelow hb34 _)) _, hcw, by omega, by have := hb4.size; omega⟩
  obtain ⟨huw0, huw1⟩ := huw
  clear hown hb4 hw4 hb44 hb34 hq7 hb45 HUp HQ03 HQ13 HQ63 HC3 HG3 HS3 h36
  go_upto_region 4 with fail
  rw [HE4.out]
  clear HE4
  generalize y4.heap.size = b7 at *
  go_upto_region 5 with fail
  obtain ⟨w5, hw5⟩ : ∃ w5, w4.alloc (.cells #[] 5) = w5 := ⟨_, rfl⟩
  rw [hw5] at HD5 ⊢
  clear hw5
  generalize w4.heap.size = gd at *
  have g0 := HD5.out.q6.cell 0 rfl
  go_upto_block 0 with fail
  clear g0
  go_cut [9] from 26 (fun v W => ∃ (r2 : Int) (da : Option Addr) (dl dc : Nat) (ds : List Int), v = .slice da dl dc ∧ Hid (-9223372036854775808 ≤ r2 ∧ r2 ≤ 4294967295) ∧ Hid (dl ≤ 1000000000) ∧ Hid (RqS w W B c a len cap zs b6 b7 op id r2 uid uw UA Z UC ud uz da dl dc ds))
  case first =>
    have hbig : b6 < w5.heap.size := HD5.out.q6.lt
    by_cases h1 : op = 1
    · subst h1
      go_wp2_with fail
      refine (l1Int_any B c a len cap zs w5.heap.size 5 5 [0, 3, 30, 1000000, 1000001] _ (HD5.out.new _).cur hl (heap_alloc_new w5 _) (by have := HD5.out.l6; have := HD5.out.cw; omega) rfl (by omega) (by omega)).mono ?_
      rintro e y ⟨r2, rfl, hr2, hc, hg⟩
      have hD := (HD5.out.new (.cells #[.int .i64 0, .int .i64 3, .int .i64 30, .int .i64 1000000, .int .i64 1000001] 3)).call hc hg
      have HF := (show Hid _ from hD.put r2)
      have HR : Hid (-9223372036854775808 ≤ r2 ∧ r2 ≤ 4294967295) := by
        show _ ∧ _
        simp only [List.mem_cons, List.not_mem_nil, or_false] at hr2
        omega
      have k2 := hD.q6.cell 2 rfl
      have f2 := hD.q6.frozen 2
      clear hr2 hc hg hD HD5
      go_wp2_with fail
      go_meet
      exact ⟨r2, _, _, _, _, rfl, HR, (show (0 : Nat) ≤ 1000000000 by omega), HF⟩
    have e1 : (op == 1) = false := by simpa using h1
    by_cases h3 : op = 3
    · subst h3
      have u2 := HD5.out.q7.cell 2 rfl
      go_wp2_with fail
      refine (l1Int_any B c a len cap zs w5.heap.size 5 5 [(Z : Int), (Z : Int), (Z : Int), 0, 7] _ (HD5.out.new _).cur hl (heap_alloc_new w5 _) (by have := HD5.out.l6; have := HD5.out.cw; omega) rfl (by omega) (by omega)).mono ?_
      rintro e y ⟨r2, rfl, hr2, hc, hg⟩
      have hD := (HD5.out.new (.cells #[.int .i64 (Z : Int), .int .i64 (Z : Int), .int .i64 (Z : Int), .int .i64 0, .int .i64 7] 3)).call hc hg
      have HR : Hid (-9223372036854775808 ≤ r2 ∧ r2 ≤ 4294967295) := by
        show _ ∧ _
        simp only [List.mem_cons, List.not_mem_nil, or_false] at hr2
        omega
      have k2 := hD.q6.cell 2 rfl
      have f2 := hD.q6.frozen 2
      obtain ⟨w6, hw6⟩ : ∃ w6, y.setCell ⟨b6, 2, none⟩ (.int .i64 r2) = w6 := ⟨_, rfl⟩
      have HE6 : Hid (y.setCell ⟨b6, 2, none⟩ (.int .i64 r2) = w6) := hw6
      have HD6 : Hid (RqS w w6 B c a len cap zs b6 b7 3 id r2 uid uw UA Z UC ud uz (some ⟨gd, 0, none⟩) 0 0 []) := by
        have := hD.put r2
        rw [hw6] at this
        exact this
      clear hr2 hc hg hD HD5 u2 hw6
      go_upto_region 10 with fail
      rw [HE6.out]
      clear HE6 k2 f2
      have hbig6 : b6 < w6.heap.size := HD6.out.q6.lt
      go_wp2_with fail
      refine (l1Int_any B c a len cap zs w6.heap.size 5 5 [1, 3, 24, 30, 0] _ (HD6.out.new _).cur hl (heap_alloc_new w6 _) (by have := HD6.out.l6; have := HD6.out.cw; omega) rfl (by omega) (by omega)).mono ?_
      rintro e y6 ⟨m, rfl, hm, hc, hg⟩
      have hD6 := (HD6.out.new (.cells #[.int .i64 1, .int .i64 3, .int .i64 24, .int .i64 30, .int .i64 0] 3)).call hc hg
      obtain ⟨M, rfl⟩ : ∃ M : Nat, m = (M : Int) := Int.eq_ofNat_of_zero_le (by simp only [List.mem_cons, List.not_mem_nil, or_false] at hm; omega)
      have hM : M ≤ 30 := by simp only [List.mem_cons, List.not_mem_nil, or_false] at hm; omega
      have HD6b := (show Hid _ from hD6)
      clear hm hc hg hD6 HD6
      go_wp2_with fail
      refine (l1Bytes_big B c a len cap zs M y6 HD6b.out.cur hl (by omega)).mono ?_
      rintro e y7 ⟨g, cp, ys, rfl, hgs, hown, hc, hg⟩
      have HD7 := (show Hid _ from (HD6b.out.call hc hg).data (hown.low HD6b.out.grown.size))
      clear hgs hown hc hg HD6b
      have u1 := HD7.out.q7.cell 1 rfl
      have u2 := HD7.out.q7.cell 2 rfl
      have HM : Hid (M ≤ 1000000000) := by show M ≤ _; omega
      go_upto_region 11 with fail
      by_cases hgt : (Z : Int) < uw
      case neg =>
        have hgtd : decide ((Z : Int) < uw) = false := by simpa using hgt
        go_wp2_with fail
        go_meet
        exact ⟨r2, _, _, _, _, rfl, HR, HM, HD7⟩
      have hgtd : decide ((Z : Int) < uw) = true := by simpa using hgt
      go_wp2_with fail
      refine (l1Once_any B c a len cap zs 2 y7 HD7.out.cur hl (by omega) (by omega)).mono ?_
      rintro e y8 ⟨b2, rfl, hc, hg⟩
      have HD8 := (show Hid _ from HD7.out.call hc hg)
      clear hc hg HD7 u1 u2
      cases b2 with
      | false =>
        go_wp2_with fail
        go_meet
        exact ⟨r2, _, _, _, _, rfl, HR, HM, HD8⟩
      | true =>
        have u1 := HD8.out.q7.cell 1 rfl
        have u2 := HD8.out.q7.cell 2 rfl
        obtain ⟨Q, hQ⟩ : ∃ Q : Nat, uw - (Z : Int) = (Q : Int) := Int.eq_ofNat_of_zero_le (by omega)
        have hQb : Q ≤ 1000000000 := by omega
        have HQ : Hid (uw - (Z : Int) = (Q : Int)) := hQ
        clear hQ
        go_upto_region 12 with fail
        go_wp2_with fail
        rw [HQ.out]
        refine (l1Bytes_big B c a len cap zs Q y8 HD8.out.cur hl (by omega)).mono ?_
        rintro e y9 ⟨g9, cp9, ys9, rfl, hgs, hown, hc, hg⟩
        have HD9 := (show Hid _ from (HD8.out.call hc hg).data (hown.low HD8.out.grown.size))
        have HQ2 : Hid (Q ≤ 1000000000) := hQb
        clear hgs hown hc hg HD8 u1 u2
        go_wp2_with fail
        go_meet
        exact ⟨r2, _, _, _, _, rfl, HR, HQ2, HD9⟩
    have e3 : (op == 3) = false := by simpa using h3
    by_cases h4 : op = 4
    · subst h4
      go_upto_region 14 with fail
      have HDd := (show Hid _ from RqS.stays HD5.out (Below.refl _ _).drew)
      have u2 := HDd.out.q7.cell 2 rfl
      have HSeg : Hid (Seg w5.drew UA Z uz) := HDd.out.own.seg
      have hcr : Hid ((0 : Int) ≤ ((crcL uz ^^^ 4294967295 : Nat) : Int) ∧ ((crcL uz ^^^ 4294967295 : Nat) : Int) ≤ 4294967295) := by
        refine ⟨Int.natCast_nonneg _, ?_⟩
        have hlt := crcL_lt uz HDd.out.own.2
        have : crcL uz ^^^ 4294967295 < 2 ^ 32 := Nat.xor_lt_two_pow (by omega) (by omega)
        omega
      have u2a : ∀ o, (w5.alloc o).drew.cell? ⟨b7, 2, none⟩ = some (.slice UA Z UC) := fun o => BoxN.cell (RqS.stays (HD5.out.new o) (Below.refl _ _).drew).q7 2 rfl
      have HDa : Hid (RqS w (w5.alloc (.cells #[.int .i64 ((crcL uz ^^^ 4294967295 : Nat) : Int), .int .i64 ((crcL uz ^^^ 4294967295 : Nat) : Int), .int .i64 7] 3)).drew B c a len cap zs b6 b7 4 id rn uid uw UA Z UC ud uz (some ⟨gd, 0, none⟩) 0 0 []) := RqS.stays (HD5.out.new _) (Below.refl _ _).drew
      have HLa : Hid ((w5.alloc (.cells #[.int .i64 ((crcL uz ^^^ 4294967295 : Nat) : Int), .int .i64 ((crcL uz ^^^ 4294967295 : Nat) : Int), .int .i64 7] 3)).drew.heap[w5.heap.size]? = some (.cells #[.int .i64 ((crcL uz ^^^ 4294967295 : Nat) : Int), .int .i64 ((crcL uz ^^^ 4294967295 : Nat) : Int), .int .i64 7] 3 (0, 0))) := heap_alloc_new w5 _
      have hgc : w5.heap.size ≠ c := by have := HD5.out.l6; have := HD5.out.cw; omega
      clear HD5
      go_region_held3 (fun W => W.cell? ⟨b7, 2, none⟩ = some (.slice UA Z UC)) (first | with_reducible exact u2 | with_reducible exact u2a _ | with_reducible exact u2b | with_reducible exact u2c _ | fail) (first
        | (go_at_call 27; refine (l1Int_any B c a len cap zs w5.heap.size 3 3 [((crcL uz ^^^ 4294967295 : Nat) : Int), ((crcL uz ^^^ 4294967295 : Nat) : Int), 7] _ HDa.out.cur hl HLa.out hgc rfl (by omega) (by omega)).mono ?_; rintro e y ⟨r2, rfl, hr2, hc, hg⟩
           have hD := HDa.out.call hc hg
           have u2b := hD.q7.cell 2 rfl
           have u2c : ∀ v, (y.setCell ⟨b6, 2, none⟩ v).cell? ⟨b7, 2, none⟩ = some (.slice UA Z UC) := fun v => BoxN.cell (BoxN.other hD.q7 (by have := hD.l7; omega) v) 2 rfl
           have k2 := hD.q6.cell 2 rfl
           have f2 := hD.q6.frozen 2)
        | (go_at_call 57; refine (specCrc_any UA Z UC uz _ HSeg.out (by omega)).mono ?_; rintro e y ⟨rfl, rfl⟩)
        | fail)
      all_goals
        have HR : Hid (-9223372036854775808 ≤ r2 ∧ r2 ≤ 4294967295) := by
          show _ ∧ _
          have := hcr.out
          simp only [List.mem_cons, List.not_mem_nil, or_false] at hr2
          omega
        have HF := (show Hid _ from hD.put r2)
        clear hr2 hc hg hD HDd HSeg HDa HLa hcr u2 u2a u2b u2c
        go_wp2_with fail
        go_meet
        exact ⟨r2, _, _, _, _, rfl, HR, (show (0 : Nat) ≤ 1000000000 by omega), HF⟩
    have e4 : (op == 4) = false := by simpa using h4
    go_wp2_with fail
    go_meet
    exact ⟨rn, _, _, _, _, rfl, HRn, (show (0 : Nat) ≤ 1000000000 by omega), HD5⟩
  case rest =>
  obtain ⟨wr, hwr⟩ : ∃ wr, wc = wr := ⟨_, rfl⟩
  rw [hwr] at hcut ⊢
  clear hwr HD5
  obtain ⟨r2, da, dl, dc, ds, rfl, HR, HDl, HD⟩ := hcut
  obtain ⟨c0, c1, c2⟩ := (show _ ∧ _ ∧ _ from ⟨HD.out.q6.cell 0 rfl, HD.out.q6.cell 1 rfl, HD.out.q6.cell 2 rfl⟩)
  obtain ⟨r0, r1, r3⟩ := (show _ ∧ _ ∧ _ from ⟨HD.out.q1.cell 0 rfl, HD.out.q1.cell 1 rfl, HD.out.q1.cell 2 rfl⟩)
  obtain ⟨f0, f1, f2⟩ := (show _ ∧ _ ∧ _ from ⟨HD.out.q1.frozen 0, HD.out.q1.frozen 1, HD.out.q1.frozen 2⟩)
  have HF := (show Hid _ from HD.out.done)
  clear HD
  go_wp2_with fail
  refine bodyPost_ret (v := .tuple #[.agg #[.int .i64 op, .string id, .int .i64 r2], .slice da dl dc]) (by simp [results, Tryz.f32, go_sem, r0, r1, r3]) rfl ?_
  exact ⟨⟨op, id, r2, da, dl, dc, ds, rfl, HId.out, HR.out, HF.out.1, HDl.out⟩, HF.out.2⟩

end Go.Proofs.YtlkgopoicpnacaaGreatDoor
