/- What the specification's PutPrefix answers, whatever its arguments. For lists of at most 2^40 bytes that are not nil. -/
import Derived.Test.YtcicboolbeognalPfxNeg
import Derived.Test.YtcicboolbeognalPfxTop
namespace Go.Proofs.Ytcicboolbeognal
open Go.RowKit
set_option linter.unusedVariables false

theorem specPfx_any (b off len cap : Nat) (bits first n : Int) (zs : List Int) (w : World) (hs : Seg w (some ⟨b, off, none⟩) len zs) (hl : len ≤ 1099511627776) :
    Calls Try.prog 41 #[.slice (some ⟨b, off, none⟩) len cap, .int .i64 bits, .int .i64 first, .int .i64 n] w fun e w' => ∃ a' cap', e = .returned (.slice a' (putPfx zs bits first n).length cap') ∧ Owns w' w.heap.size a' (putPfx zs bits first n).length cap' (putPfx zs bits first n) ∧ Below w.heap.size w w' := by
  by_cases h : 1 ≤ bits ∧ bits ≤ 8 ∧ 0 ≤ first ∧ first ≤ 255
  · obtain ⟨B, rfl⟩ := Int.eq_ofNat_of_zero_le (show 0 ≤ bits by omega)
    obtain ⟨F, rfl⟩ := Int.eq_ofNat_of_zero_le (show 0 ≤ first by omega)
    have e : putPfx zs B F n = zs ++ pfx B F (min n 16777216).toNat := by rw [putPfx, if_pos h, Int.toNat_natCast, Int.toNat_natCast]
    rw [e]
    by_cases h0 : n < 0
    · rw [show (min n 16777216).toNat = 0 by omega]
      exact specPfx_neg b off len cap B F n zs w hs hl (by omega) (by omega) (by omega) h0
    · by_cases h2 : 16777216 < n
      · rw [show (min n 16777216).toNat = 16777216 by omega]
        exact specPfx_top b off len cap B F 16777216 n rfl zs w hs hl (by omega) (by omega) (by omega) h2
      · obtain ⟨M, rfl⟩ := Int.eq_ofNat_of_zero_le (show 0 ≤ n by omega)
        rw [show (min (M : Int) 16777216).toNat = M by omega]
        exact specPfx_yes b off len cap B F M zs w hs hl (by omega) (by omega) (by omega) (by omega)
  · have e : putPfx zs bits first n = zs := by rw [putPfx, if_neg h, List.append_nil]
    rw [e, hs.1]
    exact specPfx_no b off len cap bits first n zs w hs hl h

end Go.Proofs.Ytcicboolbeognal
