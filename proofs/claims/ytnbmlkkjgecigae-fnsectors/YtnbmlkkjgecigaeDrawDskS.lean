/- A drawn text of a sector. For codes of at most 2^40 bytes. -/
import Derived.Test.YtnbmlkkjgecigaeDrawStrC
namespace Go.Proofs.Ytnbmlkkjgecigae
open Go.RowKit
set_option linter.unusedVariables false

def someL : List ByteArray := [⟨#[]⟩, ⟨#[97]⟩, ⟨#[98, 98]⟩, ⟨#[0]⟩, ⟨#[120, 121, 122]⟩]

theorem someL_short : ∀ s ∈ someL, s.size ≤ 3 := by decide

set_option maxRecDepth 10000 in
set_option maxHeartbeats 1600000 in
theorem l12Some_any (B c : Nat) (a : Option Addr) (len cap : Nat) (zs : List Int) (w : World) (hcur : Cur w B c a len cap zs) (hl : len ≤ 1099511627776) :
    Calls Try.prog 22 #[.pointer (some ⟨c, 0, none⟩)] w fun e w' => ∃ s : ByteArray, e = .returned (.string s) ∧ s.size ≤ 3 ∧ Cur w' B c a len cap zs ∧ w.grownBy w' (some c) := by
  have HC : Hid (Cur w B c a len cap zs) := hcur
  clear hcur
  have hcw : c < w.heap.size := HC.out.lt
  go_enter Try.func22, Try.ntmps22
  go_wp2_with fail
  refine (l1Str_any B c a len cap zs w.heap.size 5 5 someL _ (HC.out.new _) hl (heap_alloc_new w _) (by omega) rfl (by omega) (by omega)).mono ?_
  rintro e w2 ⟨s, rfl, hs, hc2, hg2⟩
  have HS : Hid (s.size ≤ 3) := someL_short s hs
  have HC2 : Hid (Cur w2 B c a len cap zs) := hc2
  have HG2 : Hid (w.grownBy w2 (some c)) := gtrans (World.grownBy_alloc w _ _) hg2
  clear hs hc2 hg2
  go_wp2_with fail
  go_ret
  exact ⟨s, rfl, HS.out, HC2.out, HG2.out⟩

end Go.Proofs.Ytnbmlkkjgecigae
