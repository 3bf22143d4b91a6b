/- A draw of a few bytes. -/
import Derived.Test.YtghakpcagacdaadDrawsB
namespace Go.Proofs.Ytghakpcagacdaad
open Go.RowKit
set_option linter.unusedVariables false

set_option maxRecDepth 10000 in
set_option maxHeartbeats 400000 in
theorem l1Some_b (B c : Nat) (a : Option Addr) (len cap : Nat) (zs : List Int) (w : World) (hcur : Cur w B c a len cap zs) (hl : len ≤ 1099511627776) :
    Calls Try.prog 11 #[.pointer (some ⟨c, 0, none⟩)] w fun e w' => ∃ g n cp ys, e = .returned (.slice (some ⟨g, 0, none⟩) n cp) ∧ n ≤ 9 ∧ w.heap.size ≤ g ∧ Owns w' w.heap.size (some ⟨g, 0, none⟩) n cp ys ∧ Cur w' B c a len cap zs ∧ w.grownBy w' (some c) := by
  have hcl : c < w.heap.size := hcur.lt
  have HC : Hid (∀ o, Cur (w.alloc o) B c a len cap zs) := fun o => hcur.kept (World.grownBy_alloc w o none) (by simp)
  clear hcur
  go_enter Try.func11, Try.ntmps11
  go_wp2_with fail
  refine (l1Int_any B c a len cap zs w.heap.size 5 5 [0, 1, 2, 5, 9] _ (HC.out _) hl (heap_alloc_new w _) (by omega) rfl (by omega) (by omega)).mono ?_
  rintro e w1 ⟨v, rfl, hv, hc1, hg1⟩
  have hv0 : 0 ≤ v ∧ v ≤ 9 := by
    simp only [List.mem_cons, List.not_mem_nil, or_false] at hv
    omega
  obtain ⟨n, rfl⟩ := Int.eq_ofNat_of_zero_le hv0.1
  have HC1 : Hid (Cur w1 B c a len cap zs) := hc1
  have HG1 : Hid (w.grownBy w1 (some c)) := gtrans (World.grownBy_alloc w _ (some c)) hg1
  clear hc1 hg1 hv
  go_wp2_with fail
  refine (l1Bytes_any B c a len cap zs n _ HC1.out hl (by omega)).mono ?_
  rintro e w2 ⟨g, cp, ys, rfl, hg, ho, hc2, hg2⟩
  have HC2 : Hid (Cur w2 B c a len cap zs) := hc2
  have HG2 : Hid (w.grownBy w2 (some c)) := gtrans HG1.out hg2
  have hs1 := HG1.out.size
  have HO2 : Hid (Owns w2 w.heap.size (some ⟨g, 0, none⟩) n cp ys) := ⟨⟨ho.1.1, by
    rcases ho.1.2 with ⟨e, _⟩ | ⟨g', cap', cur, e, hb, r⟩
    · simp at e
    · exact .inr ⟨g', cap', cur, e, by omega, r⟩⟩, ho.2⟩
  clear ho hc2 hg2
  go_wp2_with fail
  go_ret
  exact ⟨g, n, cp, ys, rfl, by omega, by omega, HO2.out, HC2.out, HG2.out⟩

end Go.Proofs.Ytghakpcagacdaad
