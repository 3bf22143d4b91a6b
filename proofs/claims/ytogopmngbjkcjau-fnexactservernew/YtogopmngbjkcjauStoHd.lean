/- The marks of a store, asked for. -/
import Derived.Test.YtogopmngbjkcjauStoMk
import Derived.Test.YtogopmngbjkcjauUpHd
import Derived.Test.YtogopmngbjkcjauDskHd
namespace Go.Proofs.Ytogopmngbjkcjau
open Go.RowKit
set_option linter.unusedVariables false

set_option maxRecDepth 10000 in
set_option maxHeartbeats 1600000 in
theorem heldStore_any (base : Nat) (a : Option Addr) (n ca : Nat) (a' : Option Addr) (n' ca' : Nat) (ep nx : Int) (ua : Option Addr) (un uc : Nat) (l : List UE) (k : Nat) (w : World) (h : StoMkd w base k a n ca a' n' ca' ua un uc l) (hn : n ≤ 2097152) (hn' : n' ≤ 2097152) (hk : k ≤ 1073741824) (hul : un ≤ 1099511627776) (hkE : mkUEnd (k + n + n') l ≤ 2199023255552) :
    Calls Try.prog 37 #[.agg #[.slice a n ca, .slice a' n' ca', .int .i64 ep, .int .i64 nx, .slice ua un uc], .int .i64 (k : Int)] w fun r w' => r = .returned (.int .i64 (mkUEnd (k + n + n') l : Int)) ∧ Below w.heap.size w w' := by
  have HS : Hid (∀ W, Below w.heap.size w W → StoMkd W base k a n ca a' n' ca' ua un uc l) := fun W hb => StoAt.stays h hb
  have HK : Hid (mkUEnd (k + n + n') l ≤ 2199023255552) := hkE
  clear h hkE
  have HA : Hid (BoxN (w.alloc (.cells #[.slice a n ca, .slice a' n' ca', .int .i64 ep, .int .i64 nx, .slice ua un uc] 37)) w.heap.size 37 [.slice a n ca, .slice a' n' ca', .int .i64 ep, .int .i64 nx, .slice ua un uc]) := BoxN.new _ _ _
  have HB : Hid (Below w.heap.size w (w.alloc (.cells #[.slice a n ca, .slice a' n' ca', .int .i64 ep, .int .i64 nx, .slice ua un uc] 37))) := (Below.refl _ _).alloc (Nat.le_refl _) _
  go_enter Try.func37, Try.ntmps37
  go_wp2_with fail
  obtain ⟨w0, hw0⟩ : ∃ w0, w.alloc (.cells #[.slice a n ca, .slice a' n' ca', .int .i64 ep, .int .i64 nx, .slice ua un uc] 37) = w0 := ⟨_, rfl⟩
  rw [hw0] at HA HB ⊢
  clear hw0
  refine (heldDisk_any a n ca a' n' ca' k w0 (HS.out _ HB.out).now.strs (HS.out _ HB.out).sure.strs (by omega) (by omega) hk).mono ?_
  rintro _ x1 ⟨rfl, hb1⟩
  have HB1 : Hid (Below w.heap.size w x1) := HB.out.trans (hb1.mono HB.out.size)
  have c4 := (HA.out.stays hb1).cell 4 rfl
  clear hb1
  obtain ⟨K, hK⟩ : ∃ K, k + n + n' = K := ⟨_, rfl⟩
  have HKe : Hid (k + n + n' = K) := hK
  rw [hK] at HK ⊢
  have hKb : (K : Int) ≤ 2199023255552 := by have := HKe.out; omega
  have hp1 : ¬ (K : Int) < 0 := by omega
  have hp1d : decide ((K : Int) < 0) = false := by simp
  have HU1 : Hid (UpRow x1 base (.slice ua un uc) (mkUp K l) ∧ l.length = un) := by
    have h1 := (HS.out _ HB1.out).ups
    have h2 := (HS.out _ HB1.out).len
    rw [hK] at h1
    rw [mkUp_len] at h2
    exact ⟨h1, h2.symm⟩
  clear hK
  go_wp2_with fail
  refine (heldUpS_any base ua un uc K l x1 HU1.out.1 HU1.out.2 HK.out hul).mono ?_
  rintro _ x2 ⟨rfl, hb2⟩
  have HB2 : Hid (Below w.heap.size w x2) := HB1.out.trans (hb2.mono HB1.out.size)
  obtain ⟨E, hE⟩ : ∃ E, mkUEnd K l = E := ⟨_, rfl⟩
  have HEe : Hid (mkUEnd K l = E) := hE
  rw [hE]
  have hp2 : ¬ (E : Int) < 0 := by omega
  have hp2d : decide ((E : Int) < 0) = false := by simp
  clear hE hb2
  go_wp2_with fail
  go_ret
  exact ⟨ret_i64 (by rw [HKe.out, HEe.out]), HB2.out⟩

end Go.Proofs.Ytogopmngbjkcjau
