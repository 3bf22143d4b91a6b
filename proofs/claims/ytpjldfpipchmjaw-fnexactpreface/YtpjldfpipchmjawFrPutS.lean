/- What the specification's PutFrame answers: the frame's bytes, in memory of its own, or nothing; nothing that was there is written. -/
import Derived.Test.YtpjldfpipchmjawFrOkS
import Derived.Test.YtpjldfpipchmjawFrBytes
import Derived.Test.YtpjldfpipchmjawBox4
import Derived.Test.YtpjldfpipchmjawPutB
import Derived.Test.YtpjldfpipchmjawHimStep
import Derived.Test.YtpjldfpipchmjawTabStep
import Derived.Deep.RegionHeld3
namespace Go.Proofs.Ytpjldfpipchmjaw
open Go.RowKit
set_option linter.unusedVariables false

/-- A row of two bytes. -/
def TwoAt (W : World) (g : Nat) (p q : Int) : Prop := W.heap[g]? = some (.cells #[.int .u8 p, .int .u8 q] 5 (0, 0))

theorem TwoAt.stays {W W' : World} {g : Nat} {p q : Int} (h : TwoAt W g p q) (hb : Below W.heap.size W W') : TwoAt W' g p q := (hb.block g (Array.getElem?_eq_some_iff.1 h).1).trans h

theorem TwoAt.new (W : World) (p q : Int) : TwoAt (W.alloc (.cells #[.int .u8 p, .int .u8 q] 5)) W.heap.size p q := heap_alloc_new W _

theorem TwoAt.alloc {W : World} {g : Nat} {p q : Int} (h : TwoAt W g p q) (o : Obj) : TwoAt (W.alloc o) g p q := by
  have hl := (Array.getElem?_eq_some_iff.1 h).1
  show (W.heap.push o)[g]? = _
  rw [Array.getElem?_push, if_neg (by omega)]
  exact h

theorem TwoAt.cells {W : World} {g : Nat} {p q : Int} (h : TwoAt W g p q) : ∀ j u, [Value.int .u8 p, Value.int .u8 q][j]? = some u → W.cell? ((⟨g, 0, none⟩ : Addr).add j) = some u := by
  intro j u hj
  match j, hj with
  | 0, hj => simp at hj; subst hj; simp [Addr.add, cell_of_row _ _ _ _ _ _ h]
  | 1, hj => simp at hj; subst hj; simp [Addr.add, cell_of_row _ _ _ _ _ _ h]

theorem specPut_to (b off len cap n k m : Nat) (zs : List Int) (w : World) (hs : Seg w (some ⟨b, off, none⟩) len zs) (hb : b < w.heap.size) (hl : len ≤ 1099511627776) (hn : n ≤ 9223372036854775807) (h1 : 1 ≤ k) (h8 : k ≤ 8) (hm : len + k = m) :
    Calls Try.prog 12 #[.slice (some ⟨b, off, none⟩) len cap, .int .i64 n, .int .i64 k] w fun e w' => ∃ a' cap', e = .returned (.slice a' m cap') ∧ Owns w' w.heap.size a' m cap' (zs ++ pbl n k k) ∧ Below w.heap.size w w' := by
  subst hm
  exact specPut_yes b off len cap n k zs w hs hb hl hn h1 h8

theorem Owns.someF {w : World} {base n cap : Nat} {a : Option Addr} {zs : List Int} (h : Owns w base a n cap zs) (hn : 0 < n) : ∃ g, a = .some ⟨g, 0, none⟩ := by
  rcases h.1.2 with ⟨_, h0⟩ | ⟨g, cap', cur, he, _⟩
  · omega
  · injection he with e1 _ _
    exact ⟨g, e1⟩

theorem byte_one (n : Nat) (h : n ≤ 255) : pbl n 1 1 = [(n : Int)] := by
  simp [pbl, byteOf]
  omega

theorem seg_nil {w : World} {a : Option Addr} {n : Nat} {zs : List Int} (h : Seg w a n zs) : a = none → n = 0 := by
  intro ha
  rcases h.2.2 with h0 | ⟨b, off, e, _⟩
  · exact h0
  · rw [ha] at e; cases e

theorem seg_src {w : World} {a : Option Addr} {n : Nat} {zs : List Int} (h : Seg w a n zs) : ∀ ad, a = some ad → ∀ j u, (zs.map (Value.int .u8))[j]? = some u → w.cell? (ad.add j) = some u := by
  intro ad ha j u hj
  rcases h.2.2 with h0 | ⟨b, off, e, _⟩
  · have hz := h.1
    rw [h0] at hz
    rw [List.eq_nil_of_length_eq_zero hz] at hj
    simp at hj
  · rw [ha] at e
    injection e with e
    subst e
    subst ha
    exact cells_ints h j u hj

set_option maxRecDepth 10000 in
set_option maxHeartbeats 3200000 in
theorem specPutF_yes (K F S : Nat) (a : Option Addr) (len cap M : Nat) (zs : List Int) (w : World) (hs : Seg w a len zs) (hl : len ≤ 1000) (hK : K ≤ 255) (hF : F ≤ 255) (hS : S ≤ 2147483647) (hM : M = 9 + len) :
    Calls Try.prog 9 #[.agg #[.int .i64 K, .int .i64 F, .int .i64 S, .slice a len cap]] w fun e w' => ∃ a' cap', e = .returned (.slice a' M cap') ∧ Owns w' w.heap.size a' M cap' (headB K F S len ++ zs) ∧ Below w.heap.size w w' := by
  obtain ⟨i0, hi, hz0, hz1, hz2⟩ := info_parts Try.info5
  have hzl : zs.length = len := hs.1
  have HS : Hid (Seg w a len zs) := hs
  have HB0 : Hid (Below w.heap.size w (w.alloc (.cells #[.int .i64 K, .int .i64 F, .int .i64 S, .slice a len cap] 29))) := (Below.refl _ _).alloc (Nat.le_refl _) _
  have HOk : Hid (okF K F S len = true) := decide_eq_true ⟨⟨by omega, by omega⟩, ⟨by omega, by omega⟩, ⟨by omega, by omega⟩, hl⟩
  have HM : Hid (M = 9 + len) := hM
  have hKi : (K : Int) ≤ 255 := by omega
  have hFi : (F : Int) ≤ 255 := by omega
  have hwK : IntKind.u8.wrap (K : Int) = (K : Int) := by rw [IntKind.wrap_u8]; omega
  have hwF : IntKind.u8.wrap (F : Int) = (F : Int) := by rw [IntKind.wrap_u8]; omega
  clear hs hM
  go_enter Try.func9, Try.ntmps9
  go_wp2_with fail
  refine (specFrOk_any K F S a len cap _).mono ?_
  rintro e x1 ⟨rfl, hb1⟩
  rw [HOk.out]
  have HB1 : Hid (Below w.heap.size w x1) := HB0.out.trans (hb1.mono HB0.out.size)
  have HX1 : Hid (Box4 x1 w.heap.size 29 (.int .i64 K) (.int .i64 F) (.int .i64 S) (.slice a len cap)) := (Box4.new _ _ _ _ _ _).stays hb1
  clear hb1
  obtain ⟨q0, q1, q2, q3⟩ := HX1.out.cells
  have hlt1 : w.heap.size < x1.heap.size := HX1.out.lt
  have hlt1a : ¬ w.heap.size = x1.heap.size := by omega
  have hlt1b : ¬ w.heap.size = x1.heap.size + 1 := by omega
  go_wp2_with fail
  go_region_held3 (fun W => W.cell? ⟨w.heap.size, 0, none⟩ = some (.int .i64 K) ∧ W.cell? ⟨w.heap.size, 1, none⟩ = some (.int .i64 F) ∧ W.cell? ⟨w.heap.size, 3, none⟩ = some (.slice a len cap)) (first | (refine ⟨?_, ?_, ?_⟩ <;> assumption) | go_keep) (first
    | (go_at_call 12; refine (specPut_to _ 0 0 0 len 3 3 [] _ ⟨rfl, by simp, .inl rfl⟩ (by first | (simp; done) | (simp; omega)) (by omega) (by omega) (by omega) (by omega) rfl).mono ?_; rintro e x2 ⟨a2, c2, rfl, ho2, hb2⟩
       have hbb : Below x1.heap.size x1 x2 := by first | exact ((Below.refl x1.heap.size x1).drew.alloc (Nat.le_refl _) _).trans (hb2.mono (by simp)) | exact (((Below.refl x1.heap.size x1).drew.alloc (Nat.le_refl _) _).alloc (by simp) _).trans (hb2.mono (by simp; omega))
       obtain ⟨r0, r1, r2, r3⟩ := (HX1.out.stays hbb).cells
       have hlt2 : w.heap.size < x2.heap.size := (HX1.out.stays hbb).lt
       have hlt2a : ¬ w.heap.size = x2.heap.size := (by omega)
       first
         | have HT : Hid (TwoAt x2 x1.heap.size K F) := TwoAt.stays (W := ((x1.alloc (.cells #[.int .u8 K, .int .u8 F] 5)).alloc (.cells #[] 5)).drew) ((TwoAt.new x1 K F).alloc _) hb2
         | have HT : Hid (TwoAt x2 (x1.heap.size + 1) K F) := (by show TwoAt _ _ _ _; have h := TwoAt.stays (W := ((x1.alloc (.cells #[] 5)).alloc (.cells #[.int .u8 K, .int .u8 F] 5)).drew) (TwoAt.new (x1.alloc (.cells #[] 5)) K F) hb2; simpa using h)
         | have HT : Hid (TwoAt (x2.alloc (.cells #[.int .u8 K, .int .u8 F] 5)) x2.heap.size K F) := TwoAt.new x2 K F
         | fail)
    | (first
         | (refine step_append_own rfl (.tmp 12) (.tmp 19) 22 rfl x1.heap.size 5 i0 (.int .u8 0) 1 1 Try.underlying22 hi hz0 hz1 hz2 rfl (by decide) (.slice a2 3 c2) 3 _ rfl ((own_low ho2.1 (by simp; try omega)).alloc _) ⟨x2.heap.size, 0, none⟩ 2 2 [.int .u8 K, .int .u8 F] rfl rfl HT.out.cells (ints_one [(K : Int), (F : Int)]) (by unfold maxLen; omega) (by omega) (by have := hbb.size; simp; omega) ?_; intro v3 x3 hown3 hgrow3
            have hbb3 : Below x1.heap.size x1 x3 := (hbb.alloc hbb.size _).grown hgrow3 (by have := hbb.size; simp; omega) (fun k hk => by have := (own_low ho2.1 (b' := x1.heap.size) (by simp; try omega)).lt k hk; omega))
         | (refine step_append_own rfl (.tmp 12) (.tmp 19) 22 rfl x1.heap.size 5 i0 (.int .u8 0) 1 1 Try.underlying22 hi hz0 hz1 hz2 rfl (by decide) (.slice a2 3 c2) 3 _ rfl (own_low ho2.1 (by simp; try omega)) ⟨x1.heap.size, 0, none⟩ 2 2 [.int .u8 K, .int .u8 F] rfl rfl HT.out.cells (ints_one [(K : Int), (F : Int)]) (by unfold maxLen; omega) (by omega) hbb.size ?_; intro v3 x3 hown3 hgrow3
            have hbb3 : Below x1.heap.size x1 x3 := hbb.grown hgrow3 hbb.size (fun k hk => by have := (own_low ho2.1 (b' := x1.heap.size) (by simp; try omega)).lt k hk; omega))
         | (refine step_append_own rfl (.tmp 12) (.tmp 19) 22 rfl x1.heap.size 5 i0 (.int .u8 0) 1 1 Try.underlying22 hi hz0 hz1 hz2 rfl (by decide) (.slice a2 3 c2) 3 _ rfl (own_low ho2.1 (by simp; try omega)) ⟨x1.heap.size + 1, 0, none⟩ 2 2 [.int .u8 K, .int .u8 F] rfl rfl HT.out.cells (ints_one [(K : Int), (F : Int)]) (by unfold maxLen; omega) (by omega) hbb.size ?_; intro v3 x3 hown3 hgrow3
            have hbb3 : Below x1.heap.size x1 x3 := hbb.grown hgrow3 hbb.size (fun k hk => by have := (own_low ho2.1 (b' := x1.heap.size) (by simp; try omega)).lt k hk; omega))
         | fail
       obtain ⟨s0, s1, s2, s3⟩ := (HX1.out.stays hbb3).cells)
    | fail)
  all_goals
    obtain ⟨a3, c3, rfl⟩ := shape_of_owns hown3
    have HO3 : Hid (Owns x3 x1.heap.size a3 5 c3 (pbl len 3 3 ++ pbl K 1 1 ++ pbl F 1 1)) := by
      refine ⟨?_, ?_⟩
      · rw [byte_one K hK, byte_one F hF]
        simpa using hown3
      · intro x hx
        simp only [List.mem_append] at hx
        rcases hx with (hx | hx) | hx <;> exact pbl_range _ _ _ x hx
    have HBB3 : Hid (Below x1.heap.size x1 x3) := hbb3
    have HX3 : Hid (Box4 x3 w.heap.size 29 (.int .i64 K) (.int .i64 F) (.int .i64 S) (.slice a len cap)) := HX1.out.stays hbb3
    obtain ⟨g3, rfl⟩ := HO3.out.someF (by omega)
    have hg3 := (HO3.out.lt g3 rfl).2
    clear hown3 hgrow3 hbb3 hbb r0 r1 r2 r3 s0 s1 s2 s3 hlt2 hlt2a ho2 hb2 q0 q1 q2 q3
    try clear HT
    obtain ⟨q0, q1, q2, q3⟩ := HX3.out.cells
    go_wp2_with fail
    go_region_held3 (fun W => W.cell? ⟨w.heap.size, 2, none⟩ = some (.int .i64 S) ∧ W.cell? ⟨w.heap.size, 3, none⟩ = some (.slice a len cap)) (refine ⟨?_, ?_⟩ <;> assumption) (first
      | (go_at_call 12; refine (specPut_to g3 0 5 c3 S 4 9 _ _ (HO3.out.seg.below (Below.refl _ _).drew) hg3 (by omega) (by omega) (by omega) (by omega) rfl).mono ?_; rintro e x4 ⟨a4, c4, rfl, ho4, hb4⟩
         have hbb4 : Below x3.heap.size x3 x4 := (Below.refl x3.heap.size x3).drew.trans (hb4.mono (by simp))
         obtain ⟨g4, rfl⟩ := ho4.someF (by omega)
         obtain ⟨r0, r1, r2, r3⟩ := (HX3.out.stays hbb4).cells
         have hs4 : Seg x4 a len zs := HS.out.below (HB1.out.trans ((HBB3.out.trans (hbb4.mono HBB3.out.size)).mono HB1.out.size)))
      | (refine step_append_src rfl (.tmp 24) (.tmp 26) 22 rfl x3.heap.size 5 i0 (.int .u8 0) 1 1 Try.underlying22 hi hz0 hz1 hz2 rfl (by decide) g4 9 c4 _ rfl (own_low ho4.1 (by simp)) a len cap (zs.map (Value.int .u8)) rfl (seg_nil hs4) (by simp [hzl]) (seg_src hs4) (ints_one zs) (by unfold maxLen; omega) (by omega) hbb4.size ?_; intro v5 x5 hown5 hgrow5
         have hbb5 : Below x3.heap.size x3 x5 := hbb4.grown hgrow5 hbb4.size (fun k hk => by have := (own_low ho4.1 (b' := x3.heap.size) (by simp)).lt k hk; omega)
         obtain ⟨s0, s1, s2, s3⟩ := (HX3.out.stays hbb5).cells)
      | fail)
    obtain ⟨a5, c5, rfl⟩ := shape_of_owns hown5
    have HO5 : Hid (Owns x5 w.heap.size a5 (9 + len) c5 (headB K F S len ++ zs)) := by
      refine ⟨own_low (base := x3.heap.size) ?_ (by have := HX3.out.lt; omega), ?_⟩
      · rw [headB, List.map_append]
        exact hown5
      · intro x hx
        rcases List.mem_append.1 hx with hx | hx
        · exact headB_range K F S len x hx
        · exact HS.out.2.1 x hx
    have HB5 : Hid (Below w.heap.size w x5) := HB1.out.trans ((HBB3.out.trans (hbb5.mono HBB3.out.size)).mono HB1.out.size)
    clear hown5 hgrow5 hbb5 hbb4 ho4 hb4 hs4 r0 r1 r2 r3 s0 s1 s2 s3 q0 q1 q2 q3
    go_wp2_with fail
    go_ret
    obtain rfl := HM.out
    exact ⟨_, _, rfl, HO5.out, HB5.out⟩

set_option maxHeartbeats 800000 in
theorem specPutF_no (k f s : Int) (a : Option Addr) (len cap : Nat) (w : World) (h : okF k f s len = false) :
    Calls Try.prog 9 #[.agg #[.int .i64 k, .int .i64 f, .int .i64 s, .slice a len cap]] w fun e w' => ∃ a' cap', e = .returned (.slice a' 0 cap') ∧ Owns w' w.heap.size a' 0 cap' [] ∧ Below w.heap.size w w' := by
  have HB0 : Hid (Below w.heap.size w (w.alloc (.cells #[.int .i64 k, .int .i64 f, .int .i64 s, .slice a len cap] 29))) := (Below.refl _ _).alloc (Nat.le_refl _) _
  have HOk : Hid (okF k f s len = false) := h
  clear h
  go_enter Try.func9, Try.ntmps9
  go_wp2_with fail
  refine (specFrOk_any k f s a len cap _).mono ?_
  rintro e x1 ⟨rfl, hb1⟩
  rw [HOk.out]
  have HB1 : Hid (Below w.heap.size w x1) := HB0.out.trans (hb1.mono HB0.out.size)
  clear hb1
  go_wp2_with fail
  go_ret
  exact ⟨_, _, rfl, ⟨World.ownsRow_lit _ #[] 0 HB1.out.size (Nat.zero_le _) rfl, by simp⟩, HB1.out.alloc HB1.out.size _⟩

theorem specPutFr_any (k f s : Int) (a : Option Addr) (len cap : Nat) (zs : List Int) (w : World) (hs : Seg w a len zs) :
    Calls Try.prog 9 #[.agg #[.int .i64 k, .int .i64 f, .int .i64 s, .slice a len cap]] w fun e w' => ∃ a' cap', e = .returned (.slice a' (putF k f s zs).length cap') ∧ Owns w' w.heap.size a' (putF k f s zs).length cap' (putF k f s zs) ∧ Below w.heap.size w w' := by
  have hz := hs.1
  cases h : okF k f s len with
  | false =>
    have e : putF k f s zs = [] := by unfold putF; rw [hz, h]; rfl
    rw [e]
    exact specPutF_no k f s a len cap w h
  | true =>
    have e : putF k f s zs = headB k.toNat f.toNat s.toNat len ++ zs := by unfold putF; rw [hz, h]; rfl
    have hy := okF_yes h
    obtain ⟨K, rfl⟩ := Int.eq_ofNat_of_zero_le hy.1.1
    obtain ⟨F, rfl⟩ := Int.eq_ofNat_of_zero_le hy.2.1.1
    obtain ⟨S, rfl⟩ := Int.eq_ofNat_of_zero_le hy.2.2.1.1
    rw [e, Int.toNat_natCast, Int.toNat_natCast, Int.toNat_natCast]
    exact specPutF_yes K F S a len cap _ zs w hs (by omega) (by omega) (by omega) (by omega) (by rw [List.length_append, headB_len, hz])

end Go.Proofs.Ytpjldfpipchmjaw
