/- The law of Huffman's code: a drawn text comes back of its code, which has as many bytes as are told. -/
import Derived.Test.YtkoeahopfajblaaDrawStr
import Derived.Test.YtkoeahopfajblaaHimUn
namespace Go.Proofs.Ytkoeahopfajblaa
open Go.RowKit
set_option linter.unusedVariables false

set_option maxHeartbeats 400000 in
theorem big_any (a : Option Addr) (len cap : Nat) (w : World) (hl : len ≤ maxLen) :
    Calls Try.prog 5 #[.slice a len cap] w fun e w' => e = .returned (.bool (decide ((1048576 : Int) < (len : Int)))) ∧ w' = w := by
  go_enter Try.func5, Try.ntmps5
  go_wp2
  go_ret
  exact ⟨rfl, rfl⟩

set_option maxRecDepth 10000 in
set_option maxHeartbeats 800000 in
theorem lawHuff_any (a : Option Addr) (len cap : Nat) (zs : List Int) (w : World) (hm : len ≤ maxLen) (hs : Seg w a len zs) :
    Calls Try.prog 4 #[.slice a len cap] w fun e w' => e = .returned (.bool true) ∧ Below w.heap.size w w' := by
  have HS : Hid (Seg w a len zs) := hs
  clear hs
  by_cases hbig : 1048576 < len
  · have hd : decide ((1048576 : Int) < (len : Int)) = true := by simp; omega
    go_enter Try.func4, Try.ntmps4
    go_wp2_with fail
    refine (big_any a len cap _ hm).mono ?_
    rintro e w1 ⟨rfl, rfl⟩
    rw [hd]
    go_wp2_with fail
    go_ret
    exact ⟨rfl, Below.refl _ _⟩
  · have hd : decide ((1048576 : Int) < (len : Int)) = false := by simp; omega
    have hl : len ≤ 1099511627776 := by omega
    go_enter Try.func4, Try.ntmps4
    go_wp2_with fail
    refine (big_any a len cap _ hm).mono ?_
    rintro e w1 ⟨rfl, rfl⟩
    rw [hd]
    clear hd hbig hm
    go_wp2_with fail
    refine (drawHuff_any a len cap zs _ HS.out hl).mono ?_
    rintro e w2 ⟨s, rfl, hs75, hb2⟩
    have HB2 : Hid (Below w1.heap.size w1 w2) := hb2
    clear hb2
    go_wp2_with fail
    refine (implHuff_any s _ (by omega)).mono ?_
    rintro e w3 ⟨o, oa, oc, rfl, ow3, hf3, hb3⟩
    have HF : Hid (HuffOf s.data.toList o) := hf3
    have hlen : o.length = (bitLen s.data.toList + 7) / 8 := hf3.len
    have hol : o.length ≤ 1000 := by
      have h1 := bitLen_le s.data.toList
      rw [str_len] at h1
      omega
    have HLen : Hid (o.length = (bitLen s.data.toList + 7) / 8) := hlen
    clear hlen
    have HSg : Hid (Seg w3 oa o.length o) := ow3.seg
    have HB3 : Hid (Below w1.heap.size w1 w3) := HB2.out.trans (hb3.mono HB2.out.size)
    clear ow3 hf3 hb3 HB2
    go_wp2_with fail
    refine (implUn_any _ _ _ _ _ HSg.out (by omega)).mono ?_
    rintro e w4 ⟨hres, hb4⟩
    have HB4 : Hid (Below w1.heap.size w1 w4) := HB3.out.trans (hb4.mono HB3.out.size)
    obtain rfl : e = .returned (.tuple #[.string s, .bool true]) := by
      rcases hres with ⟨t, rfl, h'⟩ | ⟨_, hno⟩
      · have e1 := h'.text HF.out
        have e2 : t = s := by
          have := Array.toList_inj.1 e1
          cases t; cases s; simp_all
        rw [e2]
      · exact absurd HF.out (hno _)
    clear hres hb4 HB3 HSg
    generalize o.length = ol at *
    go_wp2_with fail
    refine (implHLen_any s _ (by omega)).mono ?_
    rintro e w5 ⟨rfl, hb5⟩
    rw [← HLen.out]
    have HB5 : Hid (Below w1.heap.size w1 w5) := HB4.out.trans (hb5.mono HB4.out.size)
    clear hb5
    go_wp2_with fail
    go_ret
    exact ⟨rfl, HB5.out⟩

end Go.Proofs.Ytkoeahopfajblaa
