/- A text that is drawn: one of a list. For codes of at most 2^40 bytes. -/
import Derived.Test.YtlalebaaabdihagDoorDrawsC
namespace Go.Proofs.YtlalebaaabdihagDoor
open Go.RowKit
set_option linter.unusedVariables false

theorem cell_of_strs {w : World} {g : Nat} {L : List ByteArray} (h : w.heap[g]? = some (.cells (L.map Value.string).toArray 9 (0, 0))) (k : Nat) (hk : k < L.length) : w.cell? ⟨g, k, none⟩ = some (.string (L[k]'hk)) := by
  rw [cell_of_row w g k _ 9 (0, 0) h]
  simp [hk]

set_option maxRecDepth 10000 in
set_option maxHeartbeats 400000 in
theorem l1Str_any (B c : Nat) (a : Option Addr) (len cap : Nat) (zs : List Int) (g n cp : Nat) (L : List ByteArray) (w : World) (hcur : Cur w B c a len cap zs) (hl : len ≤ 1099511627776)
    (hL : w.heap[g]? = some (.cells (L.map Value.string).toArray 9 (0, 0))) (hgc : g ≠ c) (hn : L.length = n) (h1 : 1 ≤ n) (h2 : n ≤ 256) :
    Calls Tryd.prog 34 #[.pointer (some ⟨c, 0, none⟩), .slice (some ⟨g, 0, none⟩) n cp] w fun e w' => ∃ v : ByteArray, e = .returned (.string v) ∧ v ∈ L ∧ Cur w' B c a len cap zs ∧ w.grownBy w' (some c) := by
  have HC : Hid _ := hcur
  have HL : Hid _ := hL
  have HN : Hid (L.length = n) := hn
  clear hcur hL hn
  have hi1 : (1 : Int) ≤ (n : Int) := by omega
  have hi2 : (n : Int) ≤ 1000000 := by omega
  have hglt : g < w.heap.size := by
    by_cases hk : g < w.heap.size
    · exact hk
    · have := HL.out; rw [Array.getElem?_eq_none (by omega)] at this; cases this
  go_enter Tryd.func34, Tryd.ntmps34
  go_wp2_with fail
  refine (l1Below_any B c a len cap zs _ _ HC.out hl hi1 hi2).mono ?_
  rintro e w1 ⟨x, rfl, hx0, hx1, hc1, hg1⟩
  obtain ⟨k, rfl⟩ := Int.eq_ofNat_of_zero_le hx0
  have HC1 : Hid _ := hc1
  have HG1 : Hid _ := hg1
  have hkl : k < L.length := by have := HN.out; omega
  obtain ⟨v, hv⟩ : ∃ v, L[k] = v := ⟨_, rfl⟩
  have hcell : w1.cell? ⟨g, k, none⟩ = some (.string v) := by
    rw [← hv]
    refine cell_of_strs ?_ k hkl
    rw [hg1.block g hglt (fun e => hgc (Option.some.inj e))]
    exact HL.out
  have HV : Hid (v ∈ L) := by
    show v ∈ L
    rw [← hv]
    exact List.getElem_mem hkl
  clear hc1 hg1 hv
  go_wp2_with fail
  go_ret
  exact ⟨v, rfl, HV.out, HC1.out, HG1.out⟩

end Go.Proofs.YtlalebaaabdihagDoor
