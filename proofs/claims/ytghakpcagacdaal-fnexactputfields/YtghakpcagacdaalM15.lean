/- The forms of a field in a block: which one is taken, and its bytes. -/
import Derived.Test.YtghakpcagacdaalM13
import Derived.Test.YtghakpcagacdaalM13
import Derived.Test.YtghakpcagacdaalM14
namespace Go.Proofs.Ytghakpcagacdaal
open Go.RowKit
set_option linter.unusedVariables false

theorem assert_no {P : Program} {t u xT : TypeId} {fs : Array Field} {z v : Value} (hu : P.underlying u = some (.struct fs)) (hz : (P.info? u).map (·.zero) = some (some z)) (hne : t ≠ u) (w : World) :
    (Instr.typeAssert (.iface t v) xT u true).run P w = .ok (.tuple #[z, .bool false]) w := by
  obtain ⟨i, hi, hzz⟩ := Option.map_eq_some_iff.1 hz
  simp [Instr.typeAssert, run_underlying hu, hne, zeroValue, typeInfo, hi, hzz]

theorem assert_yes {P : Program} {u xT : TypeId} {fs : Array Field} {v : Value} (hu : P.underlying u = some (.struct fs)) (w : World) :
    (Instr.typeAssert (.iface u v) xT u true).run P w = .ok (.tuple #[v, .bool true]) w := by
  simp [Instr.typeAssert, run_underlying hu]

/-- The form that is taken for a field. -/
def formT (mode : Int) (b : Bool) : TypeId := if mode = 3 then 125 else if b = true then 126 else if mode = 1 then 127 else 128

set_option maxRecDepth 10000 in
theorem formFor_any (mode : Int) (b : Bool) (w : World) : Calls Try.prog 58 #[.int .i64 mode, .bool b] w fun e w' => e = .returned (.iface (formT mode b) (.agg #[])) ∧ w' = w := by
  by_cases h3 : mode = 3
  · subst h3
    go_enter Try.func58, Try.ntmps58
    go_wp2_with fail
    go_ret
    exact ⟨rfl, rfl⟩
  · have h3' : (mode == 3) = false := by simp; omega
    cases b with
    | true =>
      go_enter Try.func58, Try.ntmps58
      go_wp2_with fail
      go_ret
      refine ⟨?_, rfl⟩
      rw [formT, if_neg h3, if_pos rfl]
      rfl
    | false =>
      by_cases h1 : mode = 1
      · subst h1
        go_enter Try.func58, Try.ntmps58
        go_wp2_with fail
        go_ret
        exact ⟨rfl, rfl⟩
      · have h1' : (mode == 1) = false := by simp; omega
        go_enter Try.func58, Try.ntmps58
        go_wp2_with fail
        go_ret
        refine ⟨?_, rfl⟩
        rw [formT, if_neg h3, if_neg (by decide), if_neg h1]
        rfl

theorem lead_never (w : World) : Calls Try.prog 136 #[.agg #[]] w fun e w' => e = .returned (.tuple #[.int .i64 4, .int .i64 16]) ∧ Below w.heap.size w w' := by
  go_enter Try.func136, Try.ntmps136
  go_wp2_with fail
  go_ret2
  exact ⟨rfl, (Below.refl _ _).alloc (Nat.le_refl _) _⟩

theorem lead_indexed (w : World) : Calls Try.prog 137 #[.agg #[]] w fun e w' => e = .returned (.tuple #[.int .i64 7, .int .i64 128]) ∧ Below w.heap.size w w' := by
  go_enter Try.func137, Try.ntmps137
  go_wp2_with fail
  go_ret2
  exact ⟨rfl, (Below.refl _ _).alloc (Nat.le_refl _) _⟩

theorem lead_add (w : World) : Calls Try.prog 138 #[.agg #[]] w fun e w' => e = .returned (.tuple #[.int .i64 6, .int .i64 64]) ∧ Below w.heap.size w w' := by
  go_enter Try.func138, Try.ntmps138
  go_wp2_with fail
  go_ret2
  exact ⟨rfl, (Below.refl _ _).alloc (Nat.le_refl _) _⟩

theorem lead_plain (w : World) : Calls Try.prog 139 #[.agg #[]] w fun e w' => e = .returned (.tuple #[.int .i64 4, .int .i64 0]) ∧ Below w.heap.size w w' := by
  go_enter Try.func139, Try.ntmps139
  go_wp2_with fail
  go_ret2
  exact ⟨rfl, (Below.refl _ _).alloc (Nat.le_refl _) _⟩

/-- The bytes of a field that is told itself: the number of its name, or 0 and the name; the value. -/
def LitOf (B F : Nat) (i : Nat) (x y : ByteArray) (q : List Int) : Prop := ∃ p v, ((i = 0 ∧ StrOf x p) ∨ (i ≠ 0 ∧ p = [])) ∧ StrOf y v ∧ q = pfx B F i ++ p ++ v

theorem LitOf.one {B F i : Nat} {x y : ByteArray} {q r : List Int} (h : LitOf B F i x y q) (g : LitOf B F i x y r) : q = r := by
  obtain ⟨p, v, h1, h2, rfl⟩ := h
  obtain ⟨p', v', g1, g2, rfl⟩ := g
  rw [h2.one g2]
  rcases h1 with ⟨h0, h1⟩ | ⟨h0, rfl⟩ <;> rcases g1 with ⟨g0, g1⟩ | ⟨g0, rfl⟩
  · rw [h1.one g1]
  · exact absurd h0 g0
  · exact absurd g0 h0
  · rfl

theorem LitOf.len {B F i : Nat} {x y : ByteArray} {q : List Int} (h : LitOf B F i x y q) : q.length ≤ x.size + y.size + 18 := by
  obtain ⟨p, v, h1, h2, rfl⟩ := h
  have a1 := pfx_len B F i
  have a2 := h2.len
  rw [List.length_append, List.length_append]
  rcases h1 with ⟨_, h1⟩ | ⟨_, rfl⟩
  · have a3 := h1.len
    omega
  · simp only [List.length_nil]
    omega

set_option maxRecDepth 10000 in
set_option maxHeartbeats 1600000 in
theorem putForm_never (i : Nat) (x y : ByteArray) (w : World) (hi : i ≤ 16777216) (hx : x.size ≤ 16777216) (hy : y.size ≤ 16777216) :
    Calls Try.prog 59 #[.iface 125 (.agg #[]), .int .i64 i, .agg #[.string x, .string y]] w fun e w' => ∃ (q : List Int) (a' : Option Addr) (cap' : Nat), LitOf 4 16 i x y q ∧ e = .returned (.slice a' q.length cap') ∧ Owns w' w.heap.size a' q.length cap' q ∧ Below w.heap.size w w' := by
  obtain ⟨w1, hw1⟩ : ∃ w1, w.alloc (.cells #[.string x, .string y] 44) = w1 := ⟨_, rfl⟩
  have HB1 : Hid (Below w.heap.size w w1) := by show Below _ _ _; rw [← hw1]; exact (Below.refl _ _).alloc (Nat.le_refl _) _
  have q1 : Box2 w1 w.heap.size 44 (.string x) (.string y) := by rw [← hw1]; exact Box2.new _ _ _ _
  have HQ : Hid (∀ W, Below w1.heap.size w1 W → Box2 W w.heap.size 44 (.string x) (.string y) ∧ Below w.heap.size w W) := fun W h => ⟨q1.stays h, HB1.out.trans (h.mono HB1.out.size)⟩
  clear q1
  have hta : ∀ w : World, (Instr.typeAssert (.iface 125 (.agg #[])) 82 126 true).run Try.prog w = .ok (.tuple #[.agg #[], .bool false]) w := fun w => assert_no Try.underlying126 (by kernel_rfl) (by decide) w
  go_enter Try.func59, Try.ntmps59
  go_wp2_with fail
  refine (lead_never _).mono ?_
  rintro e w2 ⟨rfl, hb2⟩
  have HB2 : Hid (Below w1.heap.size w1 w2) := hb2
  clear hb2 hw1
  go_wp2_with fail
  refine (implPfx_good none 0 0 4 16 (i : Int) [] _ ⟨rfl, by simp, .inl rfl⟩ (by omega) (by decide) (by decide) (by decide)).mono ?_
  rintro e w3 ⟨a3, c3, rfl, ow3, hb3⟩
  have hmin : (min (i : Int) 16777216).toNat = i := by omega
  rw [hmin, List.nil_append] at ow3 ⊢
  clear hmin
  have HB3 : Hid (Below w1.heap.size w1 w3) := HB2.out.trans (hb3.mono HB2.out.size)
  have HO3 : Hid (Owns w3 w2.heap.size a3 (pfx 4 16 i).length c3 (pfx 4 16 i)) := ow3
  have hpl := pfx_len 4 16 i
  clear ow3 hb3
  generalize hP : pfx 4 16 i = P at *
  have HP : Hid (pfx 4 16 i = P) := hP
  clear hP
  generalize hpn : P.length = pn at *
  have HPn : Hid (P.length = pn) := hpn
  clear hpn
  obtain ⟨c0, c1, _, _⟩ := (HQ.out _ HB3.out).1.cells
  by_cases h0 : i = 0
  · subst h0
    go_wp2_with fail
    refine (implPutS_any a3 pn c3 x P _ HO3.out.seg (by omega) hx).mono ?_
    rintro e w4 ⟨p, a4, c4, hp, rfl, ow4, hb4⟩
    have HB4 : Hid (Below w1.heap.size w1 w4) := HB3.out.trans (hb4.mono HB3.out.size)
    have HO4 : Hid (Owns w4 w3.heap.size a4 (P ++ p).length c4 (P ++ p)) := ow4
    have hpl4 : (P ++ p).length ≤ 16777300 := by have := hp.len; rw [List.length_append, HPn.out]; omega
    have HS : Hid (StrOf x p) := hp
    clear hp ow4 hb4 c0 c1
    obtain ⟨c0, c1, _, _⟩ := (HQ.out _ HB4.out).1.cells
    generalize hR : P ++ p = R at *
    have HR : Hid (P ++ p = R) := hR
    clear hR
    generalize hrn : R.length = rn at *
    have HRn : Hid (R.length = rn) := hrn
    clear hrn
    go_wp2_with fail
    refine (implPutS_any a4 rn c4 y R _ HO4.out.seg (by omega) hy).mono ?_
    rintro e w5 ⟨v, a5, c5, hv, rfl, ow5, hb5⟩
    have HB5 : Hid (Below w1.heap.size w1 w5) := HB4.out.trans (hb5.mono HB4.out.size)
    have HO5 : Hid (Owns w5 w4.heap.size a5 (R ++ v).length c5 (R ++ v)) := ow5
    have HV : Hid (StrOf y v) := hv
    clear hv ow5 hb5 c0 c1
    go_wp2_with fail
    go_ret
    have hz : w.heap.size ≤ w4.heap.size := by have h1 := HB1.out.size; have h2 := HB4.out.size; omega
    exact ⟨R ++ v, a5, c5, ⟨p, v, .inl ⟨rfl, HS.out⟩, HV.out, by rw [HP.out, HR.out]⟩, by rw [List.length_append]; rfl, ⟨own_lower HO5.out.1 hz, HO5.out.2⟩, (HQ.out _ HB5.out).2⟩
  · have h0i : ((i : Int) == 0) = false := by simp; omega
    have h0j : ¬ (i : Int) = 0 := by omega
    go_wp2_with fail
    refine (implPutS_any a3 pn c3 y P _ HO3.out.seg (by omega) hy).mono ?_
    rintro e w4 ⟨v, a4, c4, hv, rfl, ow4, hb4⟩
    have HB4 : Hid (Below w1.heap.size w1 w4) := HB3.out.trans (hb4.mono HB3.out.size)
    have HO4 : Hid (Owns w4 w3.heap.size a4 (P ++ v).length c4 (P ++ v)) := ow4
    have HV : Hid (StrOf y v) := hv
    clear hv ow4 hb4 c0 c1
    go_wp2_with fail
    go_ret
    have hz : w.heap.size ≤ w3.heap.size := by have h1 := HB1.out.size; have h2 := HB3.out.size; omega
    exact ⟨P ++ v, a4, c4, ⟨[], v, .inr ⟨h0, rfl⟩, HV.out, by rw [HP.out, List.append_nil]⟩, by rw [List.length_append]; rfl, ⟨own_lower HO4.out.1 hz, HO4.out.2⟩, (HQ.out _ HB4.out).2⟩

set_option maxRecDepth 10000 in
set_option maxHeartbeats 1600000 in
theorem putForm_indexed (i : Nat) (x y : ByteArray) (w : World) (hi : i ≤ 16777216) (hx : x.size ≤ 16777216) (hy : y.size ≤ 16777216) :
    Calls Try.prog 59 #[.iface 126 (.agg #[]), .int .i64 i, .agg #[.string x, .string y]] w fun e w' => ∃ (q : List Int) (a' : Option Addr) (cap' : Nat), q = pfx 7 128 i ∧ e = .returned (.slice a' q.length cap') ∧ Owns w' w.heap.size a' q.length cap' q ∧ Below w.heap.size w w' := by
  obtain ⟨w1, hw1⟩ : ∃ w1, w.alloc (.cells #[.string x, .string y] 44) = w1 := ⟨_, rfl⟩
  have HB1 : Hid (Below w.heap.size w w1) := by show Below _ _ _; rw [← hw1]; exact (Below.refl _ _).alloc (Nat.le_refl _) _
  have q1 : Box2 w1 w.heap.size 44 (.string x) (.string y) := by rw [← hw1]; exact Box2.new _ _ _ _
  have HQ : Hid (∀ W, Below w1.heap.size w1 W → Box2 W w.heap.size 44 (.string x) (.string y) ∧ Below w.heap.size w W) := fun W h => ⟨q1.stays h, HB1.out.trans (h.mono HB1.out.size)⟩
  clear q1
  have hta : ∀ w : World, (Instr.typeAssert (.iface 126 (.agg #[])) 82 126 true).run Try.prog w = .ok (.tuple #[.agg #[], .bool true]) w := fun w => assert_yes Try.underlying126 w
  go_enter Try.func59, Try.ntmps59
  go_wp2_with fail
  refine (lead_indexed _).mono ?_
  rintro e w2 ⟨rfl, hb2⟩
  have HB2 : Hid (Below w1.heap.size w1 w2) := hb2
  clear hb2 hw1
  go_wp2_with fail
  refine (implPfx_good none 0 0 7 128 (i : Int) [] _ ⟨rfl, by simp, .inl rfl⟩ (by omega) (by decide) (by decide) (by decide)).mono ?_
  rintro e w3 ⟨a3, c3, rfl, ow3, hb3⟩
  have hmin : (min (i : Int) 16777216).toNat = i := by omega
  rw [hmin, List.nil_append] at ow3 ⊢
  clear hmin
  have HB3 : Hid (Below w1.heap.size w1 w3) := HB2.out.trans (hb3.mono HB2.out.size)
  have HO3 : Hid (Owns w3 w2.heap.size a3 (pfx 7 128 i).length c3 (pfx 7 128 i)) := ow3
  have hpl := pfx_len 7 128 i
  clear ow3 hb3
  generalize hP : pfx 7 128 i = P at *
  have HP : Hid (pfx 7 128 i = P) := hP
  clear hP
  generalize hpn : P.length = pn at *
  have HPn : Hid (P.length = pn) := hpn
  clear hpn
  go_wp2_with fail
  go_ret
  have hz : w.heap.size ≤ w2.heap.size := by have h1 := HB1.out.size; have h2 := HB2.out.size; omega
  refine ⟨P, a3, c3, HP.out.symm, ?_, ?_, (HQ.out _ HB3.out).2⟩
  · rw [HPn.out]
    rfl
  · rw [HPn.out]
    exact ⟨own_lower HO3.out.1 hz, HO3.out.2⟩

set_option maxRecDepth 10000 in
set_option maxHeartbeats 1600000 in
theorem putForm_add (i : Nat) (x y : ByteArray) (w : World) (hi : i ≤ 16777216) (hx : x.size ≤ 16777216) (hy : y.size ≤ 16777216) :
    Calls Try.prog 59 #[.iface 127 (.agg #[]), .int .i64 i, .agg #[.string x, .string y]] w fun e w' => ∃ (q : List Int) (a' : Option Addr) (cap' : Nat), LitOf 6 64 i x y q ∧ e = .returned (.slice a' q.length cap') ∧ Owns w' w.heap.size a' q.length cap' q ∧ Below w.heap.size w w' := by
  obtain ⟨w1, hw1⟩ : ∃ w1, w.alloc (.cells #[.string x, .string y] 44) = w1 := ⟨_, rfl⟩
  have HB1 : Hid (Below w.heap.size w w1) := by show Below _ _ _; rw [← hw1]; exact (Below.refl _ _).alloc (Nat.le_refl _) _
  have q1 : Box2 w1 w.heap.size 44 (.string x) (.string y) := by rw [← hw1]; exact Box2.new _ _ _ _
  have HQ : Hid (∀ W, Below w1.heap.size w1 W → Box2 W w.heap.size 44 (.string x) (.string y) ∧ Below w.heap.size w W) := fun W h => ⟨q1.stays h, HB1.out.trans (h.mono HB1.out.size)⟩
  clear q1
  have hta : ∀ w : World, (Instr.typeAssert (.iface 127 (.agg #[])) 82 126 true).run Try.prog w = .ok (.tuple #[.agg #[], .bool false]) w := fun w => assert_no Try.underlying126 (by kernel_rfl) (by decide) w
  go_enter Try.func59, Try.ntmps59
  go_wp2_with fail
  refine (lead_add _).mono ?_
  rintro e w2 ⟨rfl, hb2⟩
  have HB2 : Hid (Below w1.heap.size w1 w2) := hb2
  clear hb2 hw1
  go_wp2_with fail
  refine (implPfx_good none 0 0 6 64 (i : Int) [] _ ⟨rfl, by simp, .inl rfl⟩ (by omega) (by decide) (by decide) (by decide)).mono ?_
  rintro e w3 ⟨a3, c3, rfl, ow3, hb3⟩
  have hmin : (min (i : Int) 16777216).toNat = i := by omega
  rw [hmin, List.nil_append] at ow3 ⊢
  clear hmin
  have HB3 : Hid (Below w1.heap.size w1 w3) := HB2.out.trans (hb3.mono HB2.out.size)
  have HO3 : Hid (Owns w3 w2.heap.size a3 (pfx 6 64 i).length c3 (pfx 6 64 i)) := ow3
  have hpl := pfx_len 6 64 i
  clear ow3 hb3
  generalize hP : pfx 6 64 i = P at *
  have HP : Hid (pfx 6 64 i = P) := hP
  clear hP
  generalize hpn : P.length = pn at *
  have HPn : Hid (P.length = pn) := hpn
  clear hpn
  obtain ⟨c0, c1, _, _⟩ := (HQ.out _ HB3.out).1.cells
  by_cases h0 : i = 0
  · subst h0
    go_wp2_with fail
    refine (implPutS_any a3 pn c3 x P _ HO3.out.seg (by omega) hx).mono ?_
    rintro e w4 ⟨p, a4, c4, hp, rfl, ow4, hb4⟩
    have HB4 : Hid (Below w1.heap.size w1 w4) := HB3.out.trans (hb4.mono HB3.out.size)
    have HO4 : Hid (Owns w4 w3.heap.size a4 (P ++ p).length c4 (P ++ p)) := ow4
    have hpl4 : (P ++ p).length ≤ 16777300 := by have := hp.len; rw [List.length_append, HPn.out]; omega
    have HS : Hid (StrOf x p) := hp
    clear hp ow4 hb4 c0 c1
    obtain ⟨c0, c1, _, _⟩ := (HQ.out _ HB4.out).1.cells
    generalize hR : P ++ p = R at *
    have HR : Hid (P ++ p = R) := hR
    clear hR
    generalize hrn : R.length = rn at *
    have HRn : Hid (R.length = rn) := hrn
    clear hrn
    go_wp2_with fail
    refine (implPutS_any a4 rn c4 y R _ HO4.out.seg (by omega) hy).mono ?_
    rintro e w5 ⟨v, a5, c5, hv, rfl, ow5, hb5⟩
    have HB5 : Hid (Below w1.heap.size w1 w5) := HB4.out.trans (hb5.mono HB4.out.size)
    have HO5 : Hid (Owns w5 w4.heap.size a5 (R ++ v).length c5 (R ++ v)) := ow5
    have HV : Hid (StrOf y v) := hv
    clear hv ow5 hb5 c0 c1
    go_wp2_with fail
    go_ret
    have hz : w.heap.size ≤ w4.heap.size := by have h1 := HB1.out.size; have h2 := HB4.out.size; omega
    exact ⟨R ++ v, a5, c5, ⟨p, v, .inl ⟨rfl, HS.out⟩, HV.out, by rw [HP.out, HR.out]⟩, by rw [List.length_append]; rfl, ⟨own_lower HO5.out.1 hz, HO5.out.2⟩, (HQ.out _ HB5.out).2⟩
  · have h0i : ((i : Int) == 0) = false := by simp; omega
    have h0j : ¬ (i : Int) = 0 := by omega
    go_wp2_with fail
    refine (implPutS_any a3 pn c3 y P _ HO3.out.seg (by omega) hy).mono ?_
    rintro e w4 ⟨v, a4, c4, hv, rfl, ow4, hb4⟩
    have HB4 : Hid (Below w1.heap.size w1 w4) := HB3.out.trans (hb4.mono HB3.out.size)
    have HO4 : Hid (Owns w4 w3.heap.size a4 (P ++ v).length c4 (P ++ v)) := ow4
    have HV : Hid (StrOf y v) := hv
    clear hv ow4 hb4 c0 c1
    go_wp2_with fail
    go_ret
    have hz : w.heap.size ≤ w3.heap.size := by have h1 := HB1.out.size; have h2 := HB3.out.size; omega
    exact ⟨P ++ v, a4, c4, ⟨[], v, .inr ⟨h0, rfl⟩, HV.out, by rw [HP.out, List.append_nil]⟩, by rw [List.length_append]; rfl, ⟨own_lower HO4.out.1 hz, HO4.out.2⟩, (HQ.out _ HB4.out).2⟩

set_option maxRecDepth 10000 in
set_option maxHeartbeats 1600000 in
theorem putForm_plain (i : Nat) (x y : ByteArray) (w : World) (hi : i ≤ 16777216) (hx : x.size ≤ 16777216) (hy : y.size ≤ 16777216) :
    Calls Try.prog 59 #[.iface 128 (.agg #[]), .int .i64 i, .agg #[.string x, .string y]] w fun e w' => ∃ (q : List Int) (a' : Option Addr) (cap' : Nat), LitOf 4 0 i x y q ∧ e = .returned (.slice a' q.length cap') ∧ Owns w' w.heap.size a' q.length cap' q ∧ Below w.heap.size w w' := by
  obtain ⟨w1, hw1⟩ : ∃ w1, w.alloc (.cells #[.string x, .string y] 44) = w1 := ⟨_, rfl⟩
  have HB1 : Hid (Below w.heap.size w w1) := by show Below _ _ _; rw [← hw1]; exact (Below.refl _ _).alloc (Nat.le_refl _) _
  have q1 : Box2 w1 w.heap.size 44 (.string x) (.string y) := by rw [← hw1]; exact Box2.new _ _ _ _
  have HQ : Hid (∀ W, Below w1.heap.size w1 W → Box2 W w.heap.size 44 (.string x) (.string y) ∧ Below w.heap.size w W) := fun W h => ⟨q1.stays h, HB1.out.trans (h.mono HB1.out.size)⟩
  clear q1
  have hta : ∀ w : World, (Instr.typeAssert (.iface 128 (.agg #[])) 82 126 true).run Try.prog w = .ok (.tuple #[.agg #[], .bool false]) w := fun w => assert_no Try.underlying126 (by kernel_rfl) (by decide) w
  go_enter Try.func59, Try.ntmps59
  go_wp2_with fail
  refine (lead_plain _).mono ?_
  rintro e w2 ⟨rfl, hb2⟩
  have HB2 : Hid (Below w1.heap.size w1 w2) := hb2
  clear hb2 hw1
  go_wp2_with fail
  refine (implPfx_good none 0 0 4 0 (i : Int) [] _ ⟨rfl, by simp, .inl rfl⟩ (by omega) (by decide) (by decide) (by decide)).mono ?_
  rintro e w3 ⟨a3, c3, rfl, ow3, hb3⟩
  have hmin : (min (i : Int) 16777216).toNat = i := by omega
  rw [hmin, List.nil_append] at ow3 ⊢
  clear hmin
  have HB3 : Hid (Below w1.heap.size w1 w3) := HB2.out.trans (hb3.mono HB2.out.size)
  have HO3 : Hid (Owns w3 w2.heap.size a3 (pfx 4 0 i).length c3 (pfx 4 0 i)) := ow3
  have hpl := pfx_len 4 0 i
  clear ow3 hb3
  generalize hP : pfx 4 0 i = P at *
  have HP : Hid (pfx 4 0 i = P) := hP
  clear hP
  generalize hpn : P.length = pn at *
  have HPn : Hid (P.length = pn) := hpn
  clear hpn
  obtain ⟨c0, c1, _, _⟩ := (HQ.out _ HB3.out).1.cells
  by_cases h0 : i = 0
  · subst h0
    go_wp2_with fail
    refine (implPutS_any a3 pn c3 x P _ HO3.out.seg (by omega) hx).mono ?_
    rintro e w4 ⟨p, a4, c4, hp, rfl, ow4, hb4⟩
    have HB4 : Hid (Below w1.heap.size w1 w4) := HB3.out.trans (hb4.mono HB3.out.size)
    have HO4 : Hid (Owns w4 w3.heap.size a4 (P ++ p).length c4 (P ++ p)) := ow4
    have hpl4 : (P ++ p).length ≤ 16777300 := by have := hp.len; rw [List.length_append, HPn.out]; omega
    have HS : Hid (StrOf x p) := hp
    clear hp ow4 hb4 c0 c1
    obtain ⟨c0, c1, _, _⟩ := (HQ.out _ HB4.out).1.cells
    generalize hR : P ++ p = R at *
    have HR : Hid (P ++ p = R) := hR
    clear hR
    generalize hrn : R.length = rn at *
    have HRn : Hid (R.length = rn) := hrn
    clear hrn
    go_wp2_with fail
    refine (implPutS_any a4 rn c4 y R _ HO4.out.seg (by omega) hy).mono ?_
    rintro e w5 ⟨v, a5, c5, hv, rfl, ow5, hb5⟩
    have HB5 : Hid (Below w1.heap.size w1 w5) := HB4.out.trans (hb5.mono HB4.out.size)
    have HO5 : Hid (Owns w5 w4.heap.size a5 (R ++ v).length c5 (R ++ v)) := ow5
    have HV : Hid (StrOf y v) := hv
    clear hv ow5 hb5 c0 c1
    go_wp2_with fail
    go_ret
    have hz : w.heap.size ≤ w4.heap.size := by have h1 := HB1.out.size; have h2 := HB4.out.size; omega
    exact ⟨R ++ v, a5, c5, ⟨p, v, .inl ⟨rfl, HS.out⟩, HV.out, by rw [HP.out, HR.out]⟩, by rw [List.length_append]; rfl, ⟨own_lower HO5.out.1 hz, HO5.out.2⟩, (HQ.out _ HB5.out).2⟩
  · have h0i : ((i : Int) == 0) = false := by simp; omega
    have h0j : ¬ (i : Int) = 0 := by omega
    go_wp2_with fail
    refine (implPutS_any a3 pn c3 y P _ HO3.out.seg (by omega) hy).mono ?_
    rintro e w4 ⟨v, a4, c4, hv, rfl, ow4, hb4⟩
    have HB4 : Hid (Below w1.heap.size w1 w4) := HB3.out.trans (hb4.mono HB3.out.size)
    have HO4 : Hid (Owns w4 w3.heap.size a4 (P ++ v).length c4 (P ++ v)) := ow4
    have HV : Hid (StrOf y v) := hv
    clear hv ow4 hb4 c0 c1
    go_wp2_with fail
    go_ret
    have hz : w.heap.size ≤ w3.heap.size := by have h1 := HB1.out.size; have h2 := HB3.out.size; omega
    exact ⟨P ++ v, a4, c4, ⟨[], v, .inr ⟨h0, rfl⟩, HV.out, by rw [HP.out, List.append_nil]⟩, by rw [List.length_append]; rfl, ⟨own_lower HO4.out.1 hz, HO4.out.2⟩, (HQ.out _ HB4.out).2⟩

end Go.Proofs.Ytghakpcagacdaal
