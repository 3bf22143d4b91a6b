/- Texts that are drawn: one of a list; up to five of them one behind the other. For codes of at most 2^40 bytes. -/
import Derived.Test.YtljhplddgcmmoabDraws
namespace Go.Proofs.Ytljhplddgcmmoab
open Go.RowKit
set_option linter.unusedVariables false

theorem cell_of_strs {w : World} {g : Nat} {L : List ByteArray} (h : w.heap[g]? = some (.cells (L.map Value.string).toArray 9 (0, 0))) (k : Nat) (hk : k < L.length) : w.cell? ⟨g, k, none⟩ = some (.string (L[k]'hk)) := by
  rw [cell_of_row w g k _ 9 (0, 0) h]
  simp [hk]

set_option maxRecDepth 10000 in
set_option maxHeartbeats 400000 in
theorem l1Str_any (B c : Nat) (a : Option Addr) (len cap : Nat) (zs : List Int) (g n cp : Nat) (L : List ByteArray) (w : World) (hcur : Cur w B c a len cap zs) (hl : len ≤ 1099511627776)
    (hL : w.heap[g]? = some (.cells (L.map Value.string).toArray 9 (0, 0))) (hgc : g ≠ c) (hn : L.length = n) (h1 : 1 ≤ n) (h2 : n ≤ 256) :
    Calls Try.prog 69 #[.pointer (some ⟨c, 0, none⟩), .slice (some ⟨g, 0, none⟩) n cp] w fun e w' => ∃ v : ByteArray, e = .returned (.string v) ∧ v ∈ L ∧ Cur w' B c a len cap zs ∧ w.grownBy w' (some c) := by
  have HC : Hid _ := hcur
  have HL : Hid _ := hL
  have HN : Hid (L.length = n) := hn
  clear hcur hL hn
  have hi1 : (1 : Int) ≤ (n : Int) := by omega
  have hi2 : (n : Int) ≤ 1000000 := by omega
  have hglt : g < w.heap.size := by
    by_cases hk : g < w.heap.size
    · exact hk
    · have := HL.out; rw [Array.getElem?_eq_none (by omega)] at this; cases this
  go_enter Try.func69, Try.ntmps69
  go_wp2_with fail
  refine (l1Below_any B c a len cap zs _ _ HC.out hl hi1 hi2).mono ?_
  rintro e w1 ⟨x, rfl, hx0, hx1, hc1, hg1⟩
  obtain ⟨k, rfl⟩ := Int.eq_ofNat_of_zero_le hx0
  have HC1 : Hid _ := hc1
  have HG1 : Hid _ := hg1
  have hkl : k < L.length := by have := HN.out; omega
  obtain ⟨v, hv⟩ : ∃ v, L[k] = v := ⟨_, rfl⟩
  have hcell : w1.cell? ⟨g, k, none⟩ = some (.string v) := by
    rw [← hv]
    refine cell_of_strs ?_ k hkl
    rw [hg1.block g hglt (fun e => hgc (Option.some.inj e))]
    exact HL.out
  have HV : Hid (v ∈ L) := by
    show v ∈ L
    rw [← hv]
    exact List.getElem_mem hkl
  clear hc1 hg1 hv
  go_wp2_with fail
  go_ret
  exact ⟨v, rfl, HV.out, HC1.out, HG1.out⟩

/-- The texts that l3Some draws of. -/
def someStrs : List ByteArray := [⟨#[97]⟩, ⟨#[71, 69, 84]⟩, ⟨#[47, 120]⟩, ⟨#[48]⟩, ⟨#[119, 119, 119, 46, 101, 120, 97, 109, 112, 108, 101, 46, 99, 111, 109]⟩, ⟨#[0]⟩, ⟨#[126]⟩, ⟨#[255]⟩, ⟨#[123]⟩, ⟨#[90]⟩, ⟨#[32]⟩]

theorem someStrs_size (v : ByteArray) (h : v ∈ someStrs) : v.size ≤ 15 := by
  simp only [someStrs, List.mem_cons, List.not_mem_nil, or_false] at h
  rcases h with rfl | rfl | rfl | rfl | rfl | rfl | rfl | rfl | rfl | rfl | rfl <;> decide

set_option maxRecDepth 10000 in
set_option maxHeartbeats 800000 in
theorem l3Some_any (B c : Nat) (a : Option Addr) (len cap : Nat) (zs : List Int) (w : World) (hcur : Cur w B c a len cap zs) (hl : len ≤ 1099511627776) :
    Calls Try.prog 42 #[.pointer (some ⟨c, 0, none⟩)] w fun e w' => ∃ s : ByteArray, e = .returned (.string s) ∧ s.size ≤ 75 ∧ Cur w' B c a len cap zs ∧ w.grownBy w' (some c) := by
  have HC : Hid _ := hcur
  clear hcur
  go_enter Try.func42, Try.ntmps42
  go_wp2_with fail
  refine (l1Below_any B c a len cap zs _ _ HC.out hl (by omega) (by omega)).mono ?_
  rintro e w1 ⟨x, rfl, hx0, hx1, hc1, hg1⟩
  obtain ⟨n, rfl⟩ := Int.eq_ofNat_of_zero_le hx0
  have hn5 : n ≤ 5 := by omega
  have HC1 : Hid (Cur w1 B c a len cap zs) := hc1
  have HG1 : Hid (w.grownBy w1 (some c)) := hg1
  clear hc1 hg1 hx0 hx1 HC
  go_wp2_with fail
  go_loopw [3, 4] (fun v i wr => ∃ (j : Nat) (s : ByteArray), j ≤ 5 ∧ i = .int .i64 j ∧ v = .string s ∧ s.size + 15 * j ≤ 75 ∧ Hid (Cur wr B c a len cap zs) ∧ Hid (w.grownBy wr (some c))) (fun _ i _ => (intOf i).toNat)
  case atStart => exact ⟨n, ⟨#[]⟩, hn5, rfl, rfl, by have : (⟨#[]⟩ : ByteArray).size = 0 := rfl; omega, HC1, HG1⟩
  case round =>
    clear HC1 HG1
    obtain ⟨j, s, hj, rfl, rfl, hs, HC, HG⟩ := hrel
    by_cases h0 : j = 0
    · subst h0
      go_wp2_with fail
      go_ret
      exact ⟨s, rfl, by omega, HC.out, HG.out⟩
    · obtain ⟨j', rfl⟩ : ∃ j', j = j' + 1 := ⟨j - 1, by omega⟩
      have hcl := HC.out.lt
      go_wp2_with fail
      refine (l1Str_any B c a len cap zs wr.heap.size 11 11 someStrs _ (HC.out.kept (World.grownBy_alloc wr _ none) (by simp)) hl (heap_alloc_new wr _) (by omega) rfl (by omega) (by omega)).mono ?_
      rintro e w2 ⟨v, rfl, hv, hc2, hg2⟩
      have hv15 := someStrs_size v hv
      have HC2 : Hid (Cur w2 B c a len cap zs) := hc2
      have HG2 : Hid (w.grownBy w2 (some c)) := gtrans HG.out (gtrans (World.grownBy_alloc wr _ _) hg2)
      have hsv : s.size + v.size ≤ 75 := by omega
      clear hv hc2 hg2 HC HG
      go_wp2_with fail
      go_roundw
      case rel => exact ⟨j', s ++ v, by omega, rfl, rfl, by rw [ByteArray.size_append]; omega, HC2, HG2⟩
      case measure => simp [intOf]

end Go.Proofs.Ytljhplddgcmmoab
