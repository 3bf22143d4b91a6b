/- What both programs' Text answer: the digits of a number of 0 to 10^9, else the empty text. -/
import Derived.Test.YtbnhbmjomckfgaiDoorRows
import Derived.Test.YtbnhbmjomckfgaiDoorShelf
import Derived.WalkKit
import Derived.WalkSpells
import Derived.WalkLawsBesides
import Derived.Deep.QuietTactic
import Derived.Deep.RegionWith
import Derived.Deep.DrawnRows
import Derived.Lib.AppendIntMem
import Derived.Lib.ItoaMem
namespace Go.Proofs.YtbnhbmjomckfgaiDoor
open Go.RowKit
set_option linter.unusedVariables false
attribute [local go_sem ↓] Go.wp_at_zero Go.wp_at_succ

/-- 'string([]byte{c})'. -/
theorem conv_one (c : Nat) (hc : c < 256) (W : World) (g : Nat) (h : W.cell? ⟨g, 0, none⟩ = some (.int .u8 (c : Int))) :
    (convert 32 9 (.slice (some ⟨g, 0, none⟩) 1 1)).run Tryd.prog W = .ok (.string ⟨#[UInt8.ofNat c]⟩) W := by
  refine run_convert_bytes_back W 32 9 5 ⟨g, 0, none⟩ 1 [UInt8.ofNat c] Tryd.underlying32 Tryd.underlying5 Tryd.underlying9 (fun j hj => ?_)
  obtain rfl : j = 0 := by simpa using hj
  have e : (UInt8.ofNat c).toNat = c := by simp; omega
  simpa [Addr.add, Nat.mod_eq_of_lt hc] using h

theorem bcell {W w1 : World} (hb : Below W.heap.size W w1) : ∀ b o, b < W.heap.size → w1.cell? ⟨b, o, none⟩ = W.cell? ⟨b, o, none⟩ := fun b o h => hb.cell (p := ⟨b, o, none⟩) h

theorem way_one {w w' : World} (hb : Below w.drew.heap.size w.drew w') (o : Obj) : Below w.heap.size w (w'.alloc o) :=
  (Below.trans ((Below.refl _ _).drew) hb).alloc hb.size o

theorem way_two {w w' : World} {o : Obj} (hb : Below (w.alloc o).drew.heap.size (w.alloc o).drew w') : Below w.heap.size w w' :=
  (((Below.refl _ _).alloc (Nat.le_refl _) o).drew).trans (hb.mono (by simp))

set_option maxHeartbeats 400000 in
theorem l1Text_small (u : Nat) (w : World) (h : u < 10) :
    Calls Tryd.prog 10 #[.int .i64 u] w fun e w' => e = .returned (.string ⟨(Lib.decDigits u).toArray⟩) ∧ Below w.heap.size w w' := by
  have hu : (u : Int) < 10 := by omega
  rw [Lib.decDigits_one h]
  have hcv0 : ∀ (W : World) (g : Nat), W.cell? ⟨g, 0, none⟩ = some (.int .u8 (48 + (u : Int))) → (convert 32 9 (.slice (some ⟨g, 0, none⟩) 1 1)).run Tryd.prog W = .ok (.string ⟨#[UInt8.ofNat (48 + u)]⟩) W := fun W g hW => conv_one (48 + u) (by omega) W g (by simpa using hW)
  show Calls Tryd.prog 10 #[.int .i64 u] w fun e w' => e = .returned (.string ⟨#[UInt8.ofNat (48 + u)]⟩) ∧ Below w.heap.size w w'
  generalize (⟨#[UInt8.ofNat (48 + u)]⟩ : ByteArray) = T at *
  go_enter Tryd.func10, Tryd.ntmps10
  go_wp2_with fail
  go_ret
  exact ⟨rfl, (Below.refl _ _).alloc (Nat.le_refl _) _⟩

set_option maxHeartbeats 400000 in
theorem l1Text_big (u : Nat) (w : World) (h : ¬ u < 10) (hm : u ≤ 1000000000) (S T : ByteArray) (hS : S.size ≤ 100) (hT : T.size ≤ 1)
    (hcv : ∀ (W : World) (g : Nat), W.cell? ⟨g, 0, none⟩ = some (.int .u8 (48 + (u : Int) % 10)) → (convert 32 9 (.slice (some ⟨g, 0, none⟩) 1 1)).run Tryd.prog W = .ok (.string T) W)
    (ih : ∀ w, Calls Tryd.prog 10 #[.int .i64 ((u : Int) / 10)] w fun e w' => e = .returned (.string S) ∧ Below w.heap.size w w') :
    Calls Tryd.prog 10 #[.int .i64 u] w fun e w' => e = .returned (.string (S ++ T)) ∧ Below w.heap.size w w' := by
  have hu : ¬ (u : Int) < 10 := by omega
  have hu2 : (u : Int) ≤ 1000000000 := by omega
  have IH : Hid _ := ih
  clear ih
  have hw1 : IntKind.i64.wrap ((u : Int) / 10) = (u : Int) / 10 := by rw [IntKind.wrap_i64]; omega
  have hw2 : (u : Int).tmod 10 = (u : Int) % 10 := Int.tmod_eq_emod_of_nonneg (by omega)
  have hw3 : IntKind.i64.wrap (48 + (u : Int) % 10) = 48 + (u : Int) % 10 := by rw [IntKind.wrap_i64]; omega
  have hw4 : IntKind.u8.wrap (48 + (u : Int) % 10) = 48 + (u : Int) % 10 := by rw [IntKind.wrap_u8']; omega
  go_enter Tryd.func10, Tryd.ntmps10
  go_wp2_with fail
  go_region_with (go_at_call 10; refine (IH.out _).mono ?_; rintro e w' ⟨rfl, hb⟩; have hbc := bcell hb)
  all_goals
    go_wp2_with fail
    go_ret
    first
      | exact ⟨rfl, way_one hb _⟩
      | exact ⟨rfl, way_two hb⟩

theorem decDigits_len (u : Nat) : (Lib.decDigits u).length ≤ u + 1 := by
  induction u using Nat.strongRecOn with
  | ind u ih =>
    by_cases h : u < 10
    · rw [Lib.decDigits_one h]; simp
    · rw [Lib.decDigits, dif_neg h]
      have := ih (u / 10) (by omega)
      simp only [List.length_append, List.length_cons, List.length_nil]
      omega

theorem decDigits_small (n : Nat) : ∀ u, u < 10 ^ (n + 1) → (Lib.decDigits u).length ≤ n + 1 := by
  induction n with
  | zero => intro u hu; rw [Lib.decDigits_one (by simpa using hu)]; simp
  | succ n ih =>
    intro u hu
    by_cases h : u < 10
    · rw [Lib.decDigits_one h]; simp
    · rw [Lib.decDigits, dif_neg h]
      have h2 : u / 10 < 10 ^ (n + 1) := by
        rw [Nat.pow_succ] at hu
        omega
      have := ih (u / 10) h2
      simp only [List.length_append, List.length_cons, List.length_nil]
      omega

theorem l1Text_any (u : Nat) : ∀ (w : World), u ≤ 1000000000 →
    Calls Tryd.prog 10 #[.int .i64 u] w fun e w' => e = .returned (.string ⟨(Lib.decDigits u).toArray⟩) ∧ Below w.heap.size w w' := by
  induction u using Nat.strongRecOn with
  | ind u ih =>
    intro w hm
    by_cases h : u < 10
    · exact l1Text_small u w h
    · have hl := decDigits_small 9 (u / 10) (by omega)
      have e : (⟨(Lib.decDigits u).toArray⟩ : ByteArray) = ⟨(Lib.decDigits (u / 10)).toArray⟩ ++ ⟨#[UInt8.ofNat (48 + u % 10)]⟩ := by
        rw [Lib.decDigits, dif_neg h]
        apply ByteArray.ext
        simp
      rw [e]
      refine l1Text_big u w h hm _ _ ?_ ?_ (fun W g hW => conv_one (48 + u % 10) (by omega) W g (by simpa using hW)) (fun w => ?_)
      · show (Lib.decDigits (u / 10)).toArray.size ≤ 100
        simp
        omega
      · show (#[UInt8.ofNat (48 + u % 10)] : Array UInt8).size ≤ 1
        simp
      · exact ih (u / 10) (by omega) w (by omega)

/-- What Text answers. -/
def txt (n : Int) : List UInt8 := if 0 ≤ n ∧ n ≤ 1000000000 then Lib.decDigits n.toNat else []

set_option maxHeartbeats 400000 in
theorem l1In_yes (x lo hi : Int) (w : World) (h1 : lo ≤ x) (h2 : x ≤ hi) : Calls Tryd.prog 9 #[.int .i64 x, .int .i64 lo, .int .i64 hi] w fun e w' => e = .returned (.bool true) ∧ w' = w := by
  go_enter Tryd.func9, Tryd.ntmps9
  go_wp2
  go_ret
  exact ⟨rfl, rfl⟩

theorem ret_bool {a b : Bool} (h : a = b) : Ending.returned (.bool a) = .returned (.bool b) := by rw [h]

set_option maxHeartbeats 400000 in
theorem l1In_no (x lo hi : Int) (w : World) (h : x < lo ∨ hi < x) : Calls Tryd.prog 9 #[.int .i64 x, .int .i64 lo, .int .i64 hi] w fun e w' => e = .returned (.bool false) ∧ w' = w := by
  by_cases h1 : x < lo
  · clear h
    go_enter Tryd.func9, Tryd.ntmps9
    go_wp2
    go_ret
    exact ⟨rfl, rfl⟩
  · have h2 : hi < x := by omega
    clear h
    go_enter Tryd.func9, Tryd.ntmps9
    go_wp2
    go_ret
    exact ⟨ret_bool (by simp; omega), rfl⟩

set_option maxHeartbeats 400000 in
theorem specText_any (n : Int) (w : World) :
    Calls Tryd.prog 5 #[.int .i64 n] w fun e w' => e = .returned (.string ⟨(txt n).toArray⟩) ∧ Below w.heap.size w w' := by
  by_cases h : 0 ≤ n ∧ n ≤ 1000000000
  · obtain ⟨u, rfl⟩ := Int.eq_ofNat_of_zero_le h.1
    rw [txt, if_pos h, Int.toNat_natCast]
    have hu : u ≤ 1000000000 := by omega
    have h0 : (0 : Int) ≤ (u : Int) := h.1
    have h1 : (u : Int) ≤ 1000000000 := h.2
    clear h
    go_enter Tryd.func5, Tryd.ntmps5
    go_wp2_with (first | (go_at_call 9; refine (l1In_yes _ _ _ _ h0 h1).mono ?_; rintro e w' ⟨rfl, rfl⟩) | (go_at_call 10; refine (l1Text_any u _ hu).mono ?_; rintro e w' ⟨rfl, hb⟩))
    go_ret
    exact ⟨rfl, hb⟩
  · rw [txt, if_neg h]
    have HN : Hid (n < 0 ∨ 1000000000 < n) := by show _ ∨ _; omega
    clear h
    go_enter Tryd.func5, Tryd.ntmps5
    go_wp2_with (go_at_call 9; refine (l1In_no _ _ _ _ HN.out).mono ?_; rintro e w' ⟨rfl, rfl⟩)
    go_ret
    exact ⟨rfl, Below.refl _ _⟩

set_option maxHeartbeats 400000 in
theorem implText_any (n : Int) (w : World) (htab : Lib.TabIs Tryd.prog w "internal/strconv.uint64pow10" .u64 Lib.pow10Tab) :
    Calls Tryd.prog 6 #[.int .i64 n] w fun e w' => e = .returned (.string ⟨(txt n).toArray⟩) ∧ Below w.heap.size w w' := by
  have HT : Hid _ := htab
  clear htab
  by_cases h : 0 ≤ n ∧ n ≤ 1000000000
  · obtain ⟨u, rfl⟩ := Int.eq_ofNat_of_zero_le h.1
    rw [txt, if_pos h, Int.toNat_natCast]
    have h0 : (0 : Int) ≤ (u : Int) := h.1
    have h1 : (u : Int) ≤ 1000000000 := h.2
    clear h
    rw [← Lib.itoa_nonneg]
    generalize hI : (⟨(Lib.itoa (u : Int)).toArray⟩ : ByteArray) = I
    have HI : Hid (_ = I) := hI
    clear hI
    go_enter Tryd.func6, Tryd.ntmps6
    go_wp2_with (go_at_call 11; refine (Tryd.strconv_Itoa _ (by omega) (by omega) _ HT.out).mono ?_; rintro e w' ⟨rfl, k, os, rfl⟩; rw [HI.out])
    go_ret
    exact ⟨rfl, Lib.below_grow _ _ (Nat.le_refl _) _ _⟩
  · rw [txt, if_neg h]
    by_cases hn : n < 0
    · clear h
      go_enter Tryd.func6, Tryd.ntmps6
      go_wp2_with fail
      go_ret
      exact ⟨rfl, Below.refl _ _⟩
    · have h1 : 1000000000 < n := by omega
      clear h
      go_enter Tryd.func6, Tryd.ntmps6
      go_wp2_with fail
      go_ret
      exact ⟨rfl, Below.refl _ _⟩

set_option maxHeartbeats 400000 in
theorem lawText_any (n : Int) (w : World) (htab : Lib.TabIs Tryd.prog w "internal/strconv.uint64pow10" .u64 Lib.pow10Tab) :
    Calls Tryd.prog 3 #[.int .i64 n] w fun e w' => e = .returned (.bool true) ∧ Below w.heap.size w w' := by
  have HT : Hid _ := htab
  clear htab
  generalize hI : (⟨(txt n).toArray⟩ : ByteArray) = I
  have HI : Hid ((⟨(txt n).toArray⟩ : ByteArray) = I) := hI
  clear hI
  go_enter Tryd.func3, Tryd.ntmps3
  go_wp2_with fail
  refine (specText_any n _).mono ?_
  rintro e w1 ⟨rfl, hb1⟩
  rw [HI.out]
  have HT1 : Hid _ := (Lib.tabBelow_of_tabIs HT.out) w1 hb1
  have HB1 : Hid _ := hb1
  clear hb1
  go_wp2_with fail
  refine (implText_any n _ HT1.out).mono ?_
  rintro e w2 ⟨rfl, hb2⟩
  rw [HI.out]
  have HB2 : Hid (Below w.heap.size w w2) := HB1.out.trans (hb2.mono HB1.out.size)
  clear hb2
  go_wp2
  go_ret
  exact ⟨rfl, HB2.out⟩

end Go.Proofs.YtbnhbmjomckfgaiDoor
