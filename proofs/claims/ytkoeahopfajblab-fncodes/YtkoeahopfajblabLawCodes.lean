/- The law of codes: no code of a byte is the beginning of another one's; each has its length. -/
import Derived.Test.YtkoeahopfajblabHimOf
import Derived.Test.YtkoeahopfajblabHufOf
import Derived.Test.YtkoeahopfajblabLawBig
namespace Go.Proofs.Ytkoeahopfajblab
open Go.RowKit
set_option linter.unusedVariables false

theorem lenAns_byte (c : UInt8) : lenAns (c.toNat : Int) = (lenOf c : Int) := by
  have hc : c.toNat < 256 := c.toNat_lt
  rw [lenAns, if_pos (by omega), Int.toNat_natCast, lens_at]
theorem codeAns_byte (c : UInt8) : codeAns (c.toNat : Int) = (codeOfB c : Int) := by
  have hc : c.toNat < 256 := c.toNat_lt
  rw [codeAns, if_pos (by omega), Int.toNat_natCast, codes_at]

theorem shr_ne (a b k : Nat) (h : a / 2 ^ k ≠ b) : ((a : Int) / 2 ^ k != (b : Int)) = true := by
  have e : (a : Int) / 2 ^ k = ((a / 2 ^ k : Nat) : Int) := by simp
  rw [e]
  simp only [bne_iff_ne, ne_eq]
  omega

set_option maxRecDepth 10000 in
set_option maxHeartbeats 400000 in
theorem at_any (a : Option Addr) (len cap i : Nat) (zs : List Int) (w : World) (hs : Seg w a len zs) (hl : len ≤ 1099511627776) (hi : i ≤ 1000) :
    Calls Try.prog 6 #[.slice a len cap, .int .i64 i] w fun e w' => ∃ c : UInt8, e = .returned (.int .i64 (c.toNat : Int)) ∧ w' = w := by
  have HS : Hid (Seg w a len zs) := hs
  clear hs
  by_cases hlt : i < len
  · obtain ⟨b, off, rfl, hcell⟩ : ∃ b off, a = some ⟨b, off, none⟩ ∧ w.cell? ⟨b, off + i, none⟩ = some (.int .u8 (zs.getD i 0)) := by
      rcases HS.out.2.2 with h0 | ⟨b, off, e, hb, hc⟩
      · omega
      · exact ⟨b, off, e, hc i hlt⟩
    obtain ⟨h0, h1⟩ := HS.out.range i
    obtain ⟨X, hX⟩ := Int.eq_ofNat_of_zero_le h0
    rw [hX] at hcell h1
    have hx1 : (X : Int) ≤ 255 := h1
    clear h0 h1 hX
    go_enter Try.func6, Try.ntmps6
    go_wp2_with fail
    go_ret
    refine ⟨UInt8.ofNat X, ret_int ?_, rfl⟩
    have : X < 256 := by omega
    simp
    omega
  · have hli : ¬ (i : Int) < (len : Int) := by omega
    have hln : (len : Int) ≤ 1099511627776 := by omega
    have hii : (i : Int) ≤ 1000 := by omega
    go_enter Try.func6, Try.ntmps6
    go_wp2_with fail
    go_ret
    have hx : ((UInt8.ofNat ((i * 31 + len * 7) % 256)).toNat : Int) = ((i : Int) * 31 + (len : Int) * 7) % 256 := by
      simp
    first | exact ⟨UInt8.ofNat ((i * 31 + len * 7) % 256), ret_int hx.symm, rfl⟩ | exact ⟨⟨UInt8.ofNat ((i * 31 + len * 7) % 256), ret_int hx.symm⟩, rfl⟩

set_option maxRecDepth 10000 in
set_option maxHeartbeats 800000 in
theorem lawCodes_any (a : Option Addr) (len cap : Nat) (zs : List Int) (w : World) (hm : len ≤ maxLen) (hs : Seg w a len zs) :
    Calls Try.prog 3 #[.slice a len cap] w fun e w' => e = .returned (.bool true) ∧ Below w.heap.size w w' := by
  have HS : Hid (Seg w a len zs) := hs
  clear hs
  by_cases hbig : 1048576 < len
  · have hd : decide ((1048576 : Int) < (len : Int)) = true := by simp; omega
    go_enter Try.func3, Try.ntmps3
    go_wp2_with fail
    refine (big_any a len cap _ hm).mono ?_
    rintro e w1 ⟨rfl, rfl⟩
    rw [hd]
    go_wp2_with fail
    go_ret
    exact ⟨rfl, Below.refl _ _⟩
  · have hd : decide ((1048576 : Int) < (len : Int)) = false := by simp; omega
    have hl : len ≤ 1099511627776 := by omega
    go_enter Try.func3, Try.ntmps3
    go_wp2_with fail
    refine (big_any a len cap _ hm).mono ?_
    rintro e w1 ⟨rfl, rfl⟩
    rw [hd]
    clear hd hbig hm
    go_wp2_with fail
    refine (at_any a len cap 2 zs _ HS.out hl (by omega)).mono ?_
    rintro e w2 ⟨p, rfl, rfl⟩
    go_wp2_with fail
    refine (at_any a len cap 3 zs _ HS.out hl (by omega)).mono ?_
    rintro e w3 ⟨q, rfl, rfl⟩
    clear HS
    have hp := lenOf_range p
    have hq := lenOf_range q
    have HPL : Hid (∀ w : World, Calls Try.prog 7 #[.int .i64 (p.toNat : Int)] w fun e w' => e = .returned (.int .i64 (lenOf p : Int)) ∧ Below w.heap.size w w') := fun w => by
      have := implLen_any (p.toNat : Int) w
      rw [lenAns_byte] at this
      exact this
    have HQL : Hid (∀ w : World, Calls Try.prog 7 #[.int .i64 (q.toNat : Int)] w fun e w' => e = .returned (.int .i64 (lenOf q : Int)) ∧ Below w.heap.size w w') := fun w => by
      have := implLen_any (q.toNat : Int) w
      rw [lenAns_byte] at this
      exact this
    have HPC : Hid (∀ w : World, Calls Try.prog 8 #[.int .i64 (p.toNat : Int)] w fun e w' => e = .returned (.int .i64 (codeOfB p : Int)) ∧ Below w.heap.size w w') := fun w => by
      have := implOf_any (p.toNat : Int) w
      rw [codeAns_byte] at this
      exact this
    have HQC : Hid (∀ w : World, Calls Try.prog 8 #[.int .i64 (q.toNat : Int)] w fun e w' => e = .returned (.int .i64 (codeOfB q : Int)) ∧ Below w.heap.size w w') := fun w => by
      have := implOf_any (q.toNat : Int) w
      rw [codeAns_byte] at this
      exact this
    have HSC : Hid (∀ w : World, Calls Try.prog 9 #[.int .i64 (p.toNat : Int)] w fun e w' => e = .returned (.int .i64 (codeOfB p : Int)) ∧ Below w.heap.size w w') := fun w => by
      have := specOf_any (p.toNat : Int) w
      rw [codeAns_byte] at this
      exact this
    have HCL : Hid (codeOfB p < 2 ^ lenOf p) := codeOf_lt p
    go_wp2_with fail
    refine (HPL.out _).mono ?_
    rintro e w4 ⟨rfl, hb4⟩
    have HB4 : Hid (Below w3.heap.size w3 w4) := hb4
    clear hb4
    go_wp2_with fail
    refine (HQL.out _).mono ?_
    rintro e w5 ⟨rfl, hb5⟩
    have HB5 : Hid (Below w3.heap.size w3 w5) := HB4.out.trans (hb5.mono HB4.out.size)
    clear hb5 HB4
    have hp5 : decide ((lenOf p : Int) < 5) = false := by simp; omega
    have hp30 : decide ((30 : Int) < (lenOf p : Int)) = false := by simp; omega
    have hq5 : decide ((lenOf q : Int) < 5) = false := by simp; omega
    have hq30 : decide ((30 : Int) < (lenOf q : Int)) = false := by simp; omega
    have hpi : (lenOf p : Int) ≤ 30 := by omega
    have hqi : (lenOf q : Int) ≤ 30 := by omega
    have hpi5 : (5 : Int) ≤ (lenOf p : Int) := by omega
    have hqi5 : (5 : Int) ≤ (lenOf q : Int) := by omega
    go_wp2_with fail
    refine (HPC.out _).mono ?_
    rintro e w6 ⟨rfl, hb6⟩
    have HB6 : Hid (Below w3.heap.size w3 w6) := HB5.out.trans (hb6.mono HB5.out.size)
    clear hb6 HB5
    have hge : wrap64 ((2 : Int) ^ lenOf p) = ((2 ^ lenOf p : Nat) : Int) := by
      have e1 : ((2 : Int) ^ lenOf p) = ((2 ^ lenOf p : Nat) : Int) := by simp
      have h30 : 2 ^ lenOf p ≤ 2 ^ 30 := Nat.pow_le_pow_right (by decide) hp.2
      rw [e1]
      exact wrap64_small _ (by omega)
    have hdec : decide (wrap64 ((2 : Int) ^ lenOf p) ≤ (codeOfB p : Int)) = false := by
      rw [hge]
      have := HCL.out
      simp only [decide_eq_false_iff_not]
      omega
    have hdecp : (wrap64 ((2 : Int) ^ lenOf p) ≤ (codeOfB p : Int)) = False := by
      rw [hge]
      have := HCL.out
      simp only [eq_iff_iff, iff_false]
      omega
    clear hge
    by_cases hpq : p = q
    · subst hpq
      have hbq : ((p.toNat : Int) == (p.toNat : Int)) = true := by simp
      clear hp hq hqi hqi5
      go_wp2_with fail
      refine (HPC.out _).mono ?_
      rintro e w7 ⟨rfl, hb7⟩
      have HB7 : Hid (Below w3.heap.size w3 w7) := HB6.out.trans (hb7.mono HB6.out.size)
      clear hb7 HB6 hdec hdecp
      go_wp2_with fail
      refine (HSC.out _).mono ?_
      rintro e w8 ⟨rfl, hb8⟩
      have HB8 : Hid (Below w3.heap.size w3 w8) := HB7.out.trans (hb8.mono HB7.out.size)
      clear hb8 HB7
      go_wp2_with fail
      go_ret
      first | exact ⟨rfl, HB8.out⟩ | exact ⟨ret_bool (by simp), HB8.out⟩
    · have hne : p.toNat ≠ q.toNat := fun e => hpq (UInt8.toNat_inj.1 e)
      have hbq : ((p.toNat : Int) == (q.toNat : Int)) = false := by simp only [beq_eq_false_iff_ne, ne_eq]; omega
      have hbqp : ((p.toNat : Int) = (q.toNat : Int)) = False := by simp only [eq_iff_iff, iff_false]; omega
      by_cases hgt : lenOf q < lenOf p
      · obtain ⟨d, hd⟩ : ∃ d, lenOf p = lenOf q + d := ⟨lenOf p - lenOf q, by omega⟩
        have hap := code_apart q p (fun e => hpq e.symm) (by omega)
        have HAp : Hid (codeOfB p / 2 ^ (lenOf p - lenOf q) ≠ codeOfB q) := hap
        have hdg : decide ((lenOf q : Int) < (lenOf p : Int)) = true := by simp; omega
        have hdgp : ((lenOf q : Int) < (lenOf p : Int)) = True := by simp; omega
        clear hap hd hp hq hpi5 hqi5
        go_wp2_with fail
        refine (HPC.out _).mono ?_
        rintro e w7 ⟨rfl, hb7⟩
        have HB7 : Hid (Below w3.heap.size w3 w7) := HB6.out.trans (hb7.mono HB6.out.size)
        clear hb7 HB6 hdec hdecp
        go_wp2_with fail
        refine (HQC.out _).mono ?_
        rintro e w8 ⟨rfl, hb8⟩
        have HB8 : Hid (Below w3.heap.size w3 w8) := HB7.out.trans (hb8.mono HB7.out.size)
        clear hb8 HB7
        go_wp2_with fail
        go_ret
        exact ⟨ret_bool (shr_ne _ _ _ HAp.out), HB8.out⟩
      · have hap := code_apart p q hpq (by omega)
        have HAp : Hid (codeOfB q / 2 ^ (lenOf q - lenOf p) ≠ codeOfB p) := hap
        have hdg : decide ((lenOf q : Int) < (lenOf p : Int)) = false := by simp; omega
        have hdgp : ((lenOf q : Int) < (lenOf p : Int)) = False := by simp; omega
        have hle : (lenOf p : Int) ≤ (lenOf q : Int) := by omega
        clear hap hp hq hpi5 hqi5 hgt
        go_wp2_with fail
        refine (HQC.out _).mono ?_
        rintro e w7 ⟨rfl, hb7⟩
        have HB7 : Hid (Below w3.heap.size w3 w7) := HB6.out.trans (hb7.mono HB6.out.size)
        clear hb7 HB6 hdec hdecp
        go_wp2_with fail
        refine (HPC.out _).mono ?_
        rintro e w8 ⟨rfl, hb8⟩
        have HB8 : Hid (Below w3.heap.size w3 w8) := HB7.out.trans (hb8.mono HB7.out.size)
        clear hb8 HB7
        go_wp2_with fail
        go_ret
        exact ⟨ret_bool (shr_ne _ _ _ HAp.out), HB8.out⟩

end Go.Proofs.Ytkoeahopfajblab
