/- The law of what is asked: what is read of drawn fields as a request is right, and without it nothing is. Under the program's table, the library's and its two errors. -/
import Derived.Test.YthojijhafhnclaeDoorReqBack
import Derived.Test.YthojijhafhnclaeDoorReqOfS
import Derived.Test.YthojijhafhnclaeDoorDrawReqF
import Derived.Test.YthojijhafhnclaeDoorReqFldI
namespace Go.Proofs.YthojijhafhnclaeDoor
open Go.RowKit
set_option linter.unusedVariables false

theorem fieldsR_fit (op n : Int) (s : ByteArray) (h : reqB op s.data.toList n = true) : ∀ f ∈ fieldsR op s n, f.2.size ≤ 281474976710656 := fun f hf => by
  have := fieldsR_short op n s (reqB_id h).1 h f hf
  omega

set_option maxRecDepth 10000 in
set_option maxHeartbeats 3200000 in
theorem lawAsked_any (a : Option Addr) (len cap : Nat) (zs : List Int) (w : World) (hm : len ≤ maxLen) (hs : Seg w a len zs) (ht : MethT w) (hst : StdT w) :
    Calls Tryd.prog 4 #[.slice a len cap] w fun e w' => e = .returned (.bool true) ∧ Below w.heap.size w w' := by
  have HS : Hid (Seg w a len zs) := hs
  have HM : Hid (MethT w) := ht
  have HT : Hid (StdT w) := hst
  clear hs ht hst
  go_enter Tryd.func4, Tryd.ntmps4
  go_wp2_with fail
  refine (big_any a len cap w hm).mono ?_
  rintro e w0 ⟨rfl, hw0⟩
  subst hw0
  by_cases hbig : (1048576 : Int) < (len : Int)
  · rw [decide_eq_true hbig]
    go_wp2_with fail
    go_ret
    exact ⟨rfl, Below.refl _ _⟩
  rw [decide_eq_false hbig]
  have hl : len ≤ 1099511627776 := by omega
  clear hbig hm
  go_wp2_with fail
  refine (drawReqOf_any a len cap zs w0 HS.out hl).mono ?_
  rintro e w1 ⟨v, rfl, A, m, C, xs, rfl, hf1, hm5, hmC, hv1, hb1⟩
  have HF1 : Hid (Flds w1 A m xs) := hf1
  have HB1 : Hid (Below w0.heap.size w0 w1) := hb1
  have HV : Hid (∀ f ∈ xs, f.2.size ≤ 281474976710656) := fun f hf => by have := hv1 f hf; omega
  have HRd : Hid (((reqOfR xs).2 = 0 ∧ reqB (reqOfR xs).1.1 (reqOfR xs).1.2.1.data.toList (reqOfR xs).1.2.2 = true) ∨ ((reqOfR xs).2 ≠ 0 ∧ (reqOfR xs).1 = zeroR)) := req_read xs
  have HIm : Hid (∀ W, Below w0.heap.size w0 W → Flds W A m xs → Calls Tryd.prog 8 #[.slice A m C] W fun e w' => e = .returned (.tuple #[.agg #[.int .i64 (reqOfR xs).1.1, .string (reqOfR xs).1.2.1, .int .i64 (reqOfR xs).1.2.2], .int .i64 (reqOfR xs).2]) ∧ Below W.heap.size W w') := fun W hW h => implReqOf_any A m C xs W h (by omega) HV.out (HM.out.below hW) (HT.out.below hW)
  have HSp : Hid (∀ W, Flds W A m xs → Calls Tryd.prog 14 #[.slice A m C] W fun e w' => e = .returned (.tuple #[.agg #[.int .i64 (reqOfR xs).1.1, .string (reqOfR xs).1.2.1, .int .i64 (reqOfR xs).1.2.2], .int .i64 (reqOfR xs).2]) ∧ Below W.heap.size W w') := fun W h => specReqOf_any A m C xs W h (by omega) hmC
  obtain ⟨⟨⟨ro, ri, rn⟩, rc⟩, hR⟩ : ∃ R, reqOfR xs = R := ⟨_, rfl⟩
  rw [hR] at HRd HIm HSp
  dsimp only at HRd HIm HSp
  clear hR hf1 hb1 hv1 HS HV
  have hne : (rc != rc) = false := by simp
  have heq : (rc == rc) = true := by simp
  go_wp2_with fail
  refine (HIm.out w1 HB1.out HF1.out).mono ?_
  rintro e w2 ⟨rfl, hb2⟩
  have HB2 : Hid (Below w0.heap.size w0 w2) := HB1.out.trans (hb2.mono HB1.out.size)
  have HF2 : Hid (Flds w2 A m xs) := HF1.out.below hb2
  clear hb2 HB1 HF1
  have HX3 : Hid (Box3 (w2.alloc (.cells #[.int .i64 ro, .string ri, .int .i64 rn] 25)) w2.heap.size 25 (.int .i64 ro) (.string ri) (.int .i64 rn)) := Box3.new _ _ _ _ _
  have HB3 : Hid (Below w0.heap.size w0 (w2.alloc (.cells #[.int .i64 ro, .string ri, .int .i64 rn] 25))) := HB2.out.alloc HB2.out.size _
  have HF3 : Hid (Flds (w2.alloc (.cells #[.int .i64 ro, .string ri, .int .i64 rn] 25)) A m xs) := HF2.out.below ((Below.refl _ _).alloc (Nat.le_refl _) _)
  go_wp2_with fail
  obtain ⟨w3, hw3⟩ : ∃ w3, w2.alloc (.cells #[.int .i64 ro, .string ri, .int .i64 rn] 25) = w3 := ⟨_, rfl⟩
  rw [hw3] at HX3 HB3 HF3 ⊢
  clear hw3 HB2 HF2
  generalize w2.heap.size = g2 at *
  refine (HSp.out w3 HF3.out).mono ?_
  rintro e w4 ⟨rfl, hb4⟩
  have HB4 : Hid (Below w0.heap.size w0 w4) := HB3.out.trans (hb4.mono HB3.out.size)
  have HX4 := (show Hid (Box3 w4 g2 25 (.int .i64 ro) (.string ri) (.int .i64 rn)) from HX3.out.stays hb4)
  clear hb4 HB3 HF3 HX3 HIm HSp
  have HB5 : Hid (Below w0.heap.size w0 (w4.alloc (.cells #[.int .i64 ro, .string ri, .int .i64 rn] 25))) := HB4.out.alloc HB4.out.size _
  have HX5 : Hid (Box3 (w4.alloc (.cells #[.int .i64 ro, .string ri, .int .i64 rn] 25)) g2 25 (.int .i64 ro) (.string ri) (.int .i64 rn)) := HX4.out.alloc _
  have HN6 : Hid (Box3 ((w4.alloc (.cells #[.int .i64 ro, .string ri, .int .i64 rn] 25)).alloc (.cells #[.int .i64 0, .string ⟨#[]⟩, .int .i64 0] 25)) (w4.heap.size + 1) 25 (.int .i64 0) (.string ⟨#[]⟩) (.int .i64 0)) := by
    have := Box3.new (w4.alloc (.cells #[.int .i64 ro, .string ri, .int .i64 rn] 25)) 25 (.int .i64 0) (.string ⟨#[]⟩) (.int .i64 0)
    rwa [World.size_alloc] at this
  have HX6 : Hid (Box3 ((w4.alloc (.cells #[.int .i64 ro, .string ri, .int .i64 rn] 25)).alloc (.cells #[.int .i64 0, .string ⟨#[]⟩, .int .i64 0] 25)) g2 25 (.int .i64 ro) (.string ri) (.int .i64 rn)) := HX5.out.alloc _
  have HB6 : Hid (Below w0.heap.size w0 ((w4.alloc (.cells #[.int .i64 ro, .string ri, .int .i64 rn] 25)).alloc (.cells #[.int .i64 0, .string ⟨#[]⟩, .int .i64 0] 25))) := HB5.out.alloc HB5.out.size _
  clear HB4 HX4
  obtain ⟨c0, c1, c2⟩ := HX6.out.cells
  obtain ⟨n0, n1, n2⟩ := HN6.out.cells
  by_cases hc : rc = 0
  case neg =>
    have hz : (ro, ri, rn) = zeroR := by
      rcases HRd.out with h | h
      · exact absurd h.1 hc
      · exact h.2
    simp only [zeroR, Prod.mk.injEq] at hz
    obtain ⟨rfl, rfl, rfl⟩ := hz
    have hcn : (rc != 0) = true := by simpa using hc
    have hce : (rc == 0) = false := by simpa using hc
    have e2 : ((⟨#[]⟩ : ByteArray).toList == (⟨#[]⟩ : ByteArray).toList) = true := by simp
    go_wp2_with fail
    go_ret
    exact ⟨rfl, HB6.out⟩
  subst hc
  have hrq : reqB ro ri.data.toList rn = true := by
    rcases HRd.out with h | h
    · exact h.2
    · exact absurd rfl h.1
  have HR : Hid (reqB ro ri.data.toList rn = true) := hrq
  have hi9 : ri.size ≤ 9223372036854775807 := by have := (reqB_id hrq).1; omega
  clear hrq HRd
  go_wp2_with fail
  obtain ⟨w6, hw6⟩ : ∃ w6, (w4.alloc (.cells #[.int .i64 ro, .string ri, .int .i64 rn] 25)).alloc (.cells #[.int .i64 0, .string ⟨#[]⟩, .int .i64 0] 25) = w6 := ⟨_, rfl⟩
  rw [hw6] at HX6 HB6 HN6 ⊢
  clear hw6 HB5 HX5 c0 c1 c2 n0 n1 n2
  refine (implFields_any ro ri rn w6 hi9 (HM.out.below HB6.out) (HT.out.below HB6.out).1).mono ?_
  rintro e w7 ⟨lA, lC, rfl, ho7, hb7⟩
  have HL : Hid ((fieldsR ro ri rn).length ≤ 4) := fieldsR_len ro ri rn
  have HBk : Hid (reqOfR (fieldsR ro ri rn) = ((ro, ri, rn), 0)) := by have := req_back HR.out [] (.inl rfl); rw [List.append_nil] at this; exact this
  have HFt : Hid (∀ f ∈ fieldsR ro ri rn, f.2.size ≤ 281474976710656) := fieldsR_fit ro rn ri HR.out
  obtain ⟨fs, hfs⟩ : ∃ fs, fieldsR ro ri rn = fs := ⟨_, rfl⟩
  rw [hfs] at ho7 HL HBk HFt ⊢
  clear hfs
  have hfl := HL.out
  have HF7 : Hid (Flds w7 lA fs.length fs) := ho7.flds
  have HB7 : Hid (Below w0.heap.size w0 w7) := HB6.out.trans (hb7.mono HB6.out.size)
  have HX7 := (show Hid (Box3 w7 g2 25 (.int .i64 ro) (.string ri) (.int .i64 rn)) from HX6.out.stays hb7)
  clear ho7 hb7 HB6 HX6 HN6
  go_wp2_with fail
  refine (implReqOf_any lA fs.length lC fs w7 HF7.out (by omega) HFt.out (HM.out.below HB7.out) (HT.out.below HB7.out)).mono ?_
  rintro e w8 ⟨rfl, hb8⟩
  rw [HBk.out]
  have HB8 : Hid (Below w0.heap.size w0 w8) := HB7.out.trans (hb8.mono HB7.out.size)
  have HX8 := (show Hid (Box3 w8 g2 25 (.int .i64 ro) (.string ri) (.int .i64 rn)) from HX7.out.stays hb8)
  clear hb8 HB7 HX7 HF7
  have HB9 : Hid (Below w0.heap.size w0 (w8.alloc (.cells #[.int .i64 ro, .string ri, .int .i64 rn] 25))) := HB8.out.alloc HB8.out.size _
  have HX9 : Hid (Box3 (w8.alloc (.cells #[.int .i64 ro, .string ri, .int .i64 rn] 25)) g2 25 (.int .i64 ro) (.string ri) (.int .i64 rn)) := HX8.out.alloc _
  have HY9 : Hid (Box3 (w8.alloc (.cells #[.int .i64 ro, .string ri, .int .i64 rn] 25)) w8.heap.size 25 (.int .i64 ro) (.string ri) (.int .i64 rn)) := Box3.new _ _ _ _ _
  obtain ⟨c0, c1, c2⟩ := HX9.out.cells
  go_wp2_with fail
  obtain ⟨w9, hw9⟩ : ∃ w9, w8.alloc (.cells #[.int .i64 ro, .string ri, .int .i64 rn] 25) = w9 := ⟨_, rfl⟩
  rw [hw9] at HB9 HX9 HY9 ⊢
  clear hw9 HB8 HX8 c0 c1 c2
  generalize w8.heap.size = g8 at *
  refine (implReqOk_any ro ri rn w9 hi9 (HM.out.below HB9.out)).mono ?_
  rintro e w10 ⟨rfl, hb10⟩
  rw [HR.out]
  have HB10 : Hid (Below w0.heap.size w0 w10) := HB9.out.trans (hb10.mono HB9.out.size)
  have HX10 := (show Hid (Box3 w10 g2 25 (.int .i64 ro) (.string ri) (.int .i64 rn)) from HX9.out.stays hb10)
  have HY10 := (show Hid (Box3 w10 g8 25 (.int .i64 ro) (.string ri) (.int .i64 rn)) from HY9.out.stays hb10)
  clear hb10 HB9 HX9 HY9
  obtain ⟨c0, c1, c2⟩ := HX10.out.cells
  obtain ⟨d0, d1, d2⟩ := HY10.out.cells
  have e1 : (ro == ro) = true := by simp
  have e2 : (ri.toList == ri.toList) = true := by simp
  have e3 : (rn == rn) = true := by simp
  go_wp2_with fail
  go_ret
  exact ⟨rfl, HB10.out⟩

end Go.Proofs.YthojijhafhnclaeDoor
