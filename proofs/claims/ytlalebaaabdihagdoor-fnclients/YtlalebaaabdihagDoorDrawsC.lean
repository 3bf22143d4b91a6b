/- What is drawn with a cursor: a number below a bound, one of a list, bytes of a drawn number; only the cursor's block is written, and new memory made. For codes of at most 2^40 bytes. -/
import Derived.Test.YtlalebaaabdihagDoorDraw
namespace Go.Proofs.YtlalebaaabdihagDoor
open Go.RowKit
set_option linter.unusedVariables false

set_option maxRecDepth 10000 in
set_option maxHeartbeats 400000 in
theorem l1Below_any (B c : Nat) (a : Option Addr) (len cap : Nat) (zs : List Int) (n : Int) (w : World) (hcur : Cur w B c a len cap zs) (hl : len ≤ 1099511627776) (hn1 : 1 ≤ n) (hn2 : n ≤ 1000000) :
    Calls Tryd.prog 33 #[.pointer (some ⟨c, 0, none⟩), .int .i64 n] w fun e w' => ∃ x : Int, e = .returned (.int .i64 x) ∧ 0 ≤ x ∧ x < n ∧ Cur w' B c a len cap zs ∧ w.grownBy w' (some c) := by
  have HC : Hid _ := hcur
  clear hcur
  have hne : (n == 0) = false := by rw [beq_eq_false_iff_ne]; omega
  by_cases h256 : n ≤ 256
  · go_enter Tryd.func33, Tryd.ntmps33
    go_wp2_with fail
    refine (l1Byte_any B c a len cap zs _ HC.out hl).mono ?_
    rintro e w1 ⟨x, hx0, hx1, rfl, hc1, hg1⟩
    have HC1 : Hid _ := hc1
    have HG1 : Hid _ := hg1
    clear hc1 hg1
    go_wp2_with fail
    go_ret
    refine ⟨_, rfl, ?_, ?_, HC1.out, HG1.out⟩
    · first | exact Int.emod_nonneg _ (by omega) | exact Int.tmod_nonneg _ (by omega)
    · first | exact Int.emod_lt_of_pos _ (by omega) | exact Int.tmod_lt_of_pos _ (by omega)
  · go_enter Tryd.func33, Tryd.ntmps33
    go_wp2_with fail
    refine (l1Byte_any B c a len cap zs _ HC.out hl).mono ?_
    rintro e w1 ⟨x, hx0, hx1, rfl, hc1, hg1⟩
    have HC1 : Hid _ := hc1
    have HG1 : Hid _ := hg1
    clear hc1 hg1
    go_wp2_with fail
    refine (l1Byte_any B c a len cap zs _ HC1.out hl).mono ?_
    rintro e w2 ⟨y, hy0, hy1, rfl, hc2, hg2⟩
    have HC2 : Hid _ := hc2
    have HG2 : Hid _ := gtrans HG1.out hg2
    clear hc2 hg2
    go_wp2_with fail
    refine (l1Byte_any B c a len cap zs _ HC2.out hl).mono ?_
    rintro e w3 ⟨z, hz0, hz1, rfl, hc3, hg3⟩
    have HC3 : Hid _ := hc3
    have HG3 : Hid _ := gtrans HG2.out hg3
    clear hc3 hg3
    go_wp2_with fail
    go_ret
    refine ⟨_, rfl, ?_, ?_, HC3.out, HG3.out⟩
    · first | exact Int.emod_nonneg _ (by omega) | exact Int.tmod_nonneg _ (by omega)
    · first | exact Int.emod_lt_of_pos _ (by omega) | exact Int.tmod_lt_of_pos _ (by omega)

theorem cell_of_ints {w : World} {g : Nat} {L : List Int} (h : w.heap[g]? = some (.cells (L.map (Value.int .i64)).toArray 3 (0, 0))) (k : Nat) (hk : k < L.length) : w.cell? ⟨g, k, none⟩ = some (.int .i64 (L.getD k 0)) := by
  rw [cell_of_row w g k _ 3 (0, 0) h]
  simp [List.getD_eq_getElem?_getD, hk]

set_option maxRecDepth 10000 in
set_option maxHeartbeats 400000 in
theorem l1Int_any (B c : Nat) (a : Option Addr) (len cap : Nat) (zs : List Int) (g n cp : Nat) (L : List Int) (w : World) (hcur : Cur w B c a len cap zs) (hl : len ≤ 1099511627776)
    (hL : w.heap[g]? = some (.cells (L.map (Value.int .i64)).toArray 3 (0, 0))) (hgc : g ≠ c) (hn : L.length = n) (h1 : 1 ≤ n) (h2 : n ≤ 256) :
    Calls Tryd.prog 16 #[.pointer (some ⟨c, 0, none⟩), .slice (some ⟨g, 0, none⟩) n cp] w fun e w' => ∃ v : Int, e = .returned (.int .i64 v) ∧ v ∈ L ∧ Cur w' B c a len cap zs ∧ w.grownBy w' (some c) := by
  have HC : Hid _ := hcur
  have HL : Hid _ := hL
  have HN : Hid (L.length = n) := hn
  clear hcur hL hn
  have hi1 : (1 : Int) ≤ (n : Int) := by omega
  have hi2 : (n : Int) ≤ 1000000 := by omega
  have hglt : g < w.heap.size := by
    by_cases hk : g < w.heap.size
    · exact hk
    · have := HL.out; rw [Array.getElem?_eq_none (by omega)] at this; cases this
  go_enter Tryd.func16, Tryd.ntmps16
  go_wp2_with fail
  refine (l1Below_any B c a len cap zs _ _ HC.out hl hi1 hi2).mono ?_
  rintro e w1 ⟨x, rfl, hx0, hx1, hc1, hg1⟩
  obtain ⟨k, rfl⟩ := Int.eq_ofNat_of_zero_le hx0
  have HC1 : Hid _ := hc1
  have HG1 : Hid _ := hg1
  have hcell : w1.cell? ⟨g, k, none⟩ = some (.int .i64 (L.getD k 0)) := by
    refine cell_of_ints ?_ k (by have := HN.out; omega)
    rw [hg1.block g hglt (fun e => hgc (Option.some.inj e))]
    exact HL.out
  clear hc1 hg1
  go_wp2_with fail
  go_ret
  refine ⟨_, rfl, ?_, HC1.out, HG1.out⟩
  have hk : k < L.length := by have := HN.out; omega
  rw [List.getElem?_eq_getElem hk]
  exact List.getElem_mem hk

theorem gown {w w1 w2 : World} {c row : Option Nat} (h : w.grownBy w1 c) (k : w1.grownBy w2 row) (hr : ∀ j, row = some j → w.heap.size ≤ j) : w.grownBy w2 c :=
  ⟨k.os.trans h.os, k.tape.trans h.tape, k.output.trans h.output, Nat.le_trans h.size k.size, fun j hj hne => (k.block j (Nat.lt_of_lt_of_le hj h.size) (fun e => by have := hr j e.symm; omega)).trans (h.block j hj hne)⟩

theorem own_some5 {w : World} {base n : Nat} {v : Value} {xs : List Value} (h : w.ownsRow base 5 1 v n xs) (hv : ¬ v = .slice none 0 0) : ∃ g cp, v = .slice (some ⟨g, 0, none⟩) n cp ∧ base ≤ g := by
  rcases h.2 with ⟨rfl, _⟩ | ⟨g, cap, cur, rfl, hb, _⟩
  · exact absurd rfl hv
  · exact ⟨g, cap, rfl, hb⟩

theorem gnew {w W : World} {c : Option Nat} (h : w.grownBy W c) (o : Obj) : w.grownBy (W.alloc o) c := gown h (World.grownBy_alloc W o none) (by simp)
theorem gput {w W : World} {c : Option Nat} (h : w.grownBy W c) {b k : Nat} (hb : w.heap.size ≤ b) (v : Value) : w.grownBy (W.setCell ⟨b, k, none⟩ v) c := gown h (gset W b k v) (fun j e => by injection e with e; omega)
theorem Cur.put {w : World} {B c : Nat} {a : Option Addr} {len cap : Nat} {zs : List Int} (h : Cur w B c a len cap zs) {b k : Nat} (hb : c < b) (v : Value) : Cur (w.setCell ⟨b, k, none⟩ v) B c a len cap zs := h.kept (gset w b k v) (fun j e => by injection e with e; have := h.1; omega)
theorem Cur.new {w : World} {B c : Nat} {a : Option Addr} {len cap : Nat} {zs : List Int} (h : Cur w B c a len cap zs) (o : Obj) : Cur (w.alloc o) B c a len cap zs := h.kept (World.grownBy_alloc w o none) (by simp)


end Go.Proofs.YtlalebaaabdihagDoor
