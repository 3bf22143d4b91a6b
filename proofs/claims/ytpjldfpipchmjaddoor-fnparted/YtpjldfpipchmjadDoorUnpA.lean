/- What is between the padding, and behind a priority: the model, and the program's two functions; nothing is written. -/
import Derived.Test.YtpjldfpipchmjadDoorBigB
import Derived.Test.YtpjldfpipchmjadDoorSegCut
namespace Go.Proofs.YtpjldfpipchmjadDoor
open Go.RowKit
set_option linter.unusedVariables false

/-- What is between the padding. -/
def padCut (zs : List Int) : Option (List Int) := if (zs.getD 0 0).toNat + 1 ≤ zs.length then some ((zs.drop 1).take (zs.length - (zs.getD 0 0).toNat - 1)) else none

/-- What is behind a priority. -/
def prioCut (zs : List Int) : Option (List Int) := if 5 ≤ zs.length then some (zs.drop 5) else none

/-- What Unpad answers, if anything. -/
def unpadR (p q : Bool) (zs : List Int) : Option (List Int) := (if p then padCut zs else some zs).bind fun ys => if q then prioCut ys else some ys

theorem gbr_first (zs : List Int) (h : 1 ≤ zs.length) : gbr zs (0 : Int) (1 : Int) = (zs.getD 0 0, true) := by
  rw [gbr, if_pos ⟨by omega, by omega, by omega, by omega⟩]
  cases zs with
  | nil => simp at h
  | cons x zs => simp [gb]

theorem padCut_none {zs : List Int} (h : padCut zs = none) : zs.length < (zs.getD 0 0).toNat + 1 := by
  unfold padCut at h
  split at h
  · cases h
  · omega

theorem padCut_some {zs ys : List Int} (h : padCut zs = some ys) : (zs.getD 0 0).toNat + 1 ≤ zs.length ∧ ys = (zs.drop 1).take (zs.length - (zs.getD 0 0).toNat - 1) ∧ ys.length = zs.length - (zs.getD 0 0).toNat - 1 := by
  unfold padCut at h
  split at h
  · injection h with h
    subst h
    refine ⟨by assumption, rfl, ?_⟩
    rw [List.length_take, List.length_drop]
    omega
  · cases h

set_option maxHeartbeats 400000 in
theorem between_no (a : Option Addr) (len cap : Nat) (zs : List Int) (w : World) (hs : Seg w a len zs) (hcap : len ≤ cap) (hl : len ≤ 1099511627776) (h : padCut zs = none) :
    Calls Tryd.prog 68 #[.slice a len cap] w fun e w' => e = .returned (.tuple #[.slice none 0 0, .bool false]) ∧ w' = w := by
  have HS : Hid (Seg w a len zs) := hs
  have hz := hs.1
  have hr := hs.range 0
  have hc := padCut_none h
  have HG : Hid (Calls Tryd.prog 73 #[.slice a len cap, .int .i64 0, .int .i64 1] w fun e w' => e = .returned (.tuple #[.int .i64 (gbr zs 0 1).1, .bool (gbr zs 0 1).2]) ∧ w' = w) := implGet_any a len cap 0 1 zs w hs hcap hl (by omega) (by omega)
  clear hs h
  by_cases h0 : len = 0
  · have HB : Hid (gbr zs (0 : Int) (1 : Int) = (0, false)) := by show _ = _; rw [gbr, if_neg (by omega)]
    clear hc hr hz
    subst h0
    go_enter Tryd.func68, Tryd.ntmps68
    go_wp2_with fail
    refine HG.out.mono ?_
    rintro e w' ⟨rfl, rfl⟩
    rw [HB.out]
    dsimp only
    go_wp2_with fail
    go_ret2
    exact ⟨rfl, rfl⟩
  · have HB : Hid (gbr zs (0 : Int) (1 : Int) = (zs.getD 0 0, true)) := gbr_first zs (by omega)
    generalize zs.getD 0 0 = z at *
    have hgt : (len : Int) - 1 < z := by omega
    have hz0 : 0 ≤ z := hr.1
    have hz1 : z ≤ 255 := hr.2
    clear hc hr hz
    go_enter Tryd.func68, Tryd.ntmps68
    go_wp2_with fail
    refine HG.out.mono ?_
    rintro e w' ⟨rfl, rfl⟩
    rw [HB.out]
    dsimp only
    go_wp2_with fail
    go_ret2
    exact ⟨rfl, rfl⟩

set_option maxHeartbeats 400000 in
theorem between_yes (a : Option Addr) (len cap : Nat) (zs ys : List Int) (w : World) (hs : Seg w a len zs) (hcap : len ≤ cap) (hl : len ≤ 1099511627776) (h : padCut zs = some ys) :
    Calls Tryd.prog 68 #[.slice a len cap] w fun e w' => ∃ a' cap', e = .returned (.tuple #[.slice a' ys.length cap', .bool true]) ∧ Seg w a' ys.length ys ∧ ys.length ≤ cap' ∧ w' = w := by
  have hz := hs.1
  have hr := hs.range 0
  obtain ⟨hc, hy, hyl⟩ := padCut_some h
  have HG : Hid (Calls Tryd.prog 73 #[.slice a len cap, .int .i64 0, .int .i64 1] w fun e w' => e = .returned (.tuple #[.int .i64 (gbr zs 0 1).1, .bool (gbr zs 0 1).2]) ∧ w' = w) := implGet_any a len cap 0 1 zs w hs hcap hl (by omega) (by omega)
  have HB : Hid (gbr zs (0 : Int) (1 : Int) = (zs.getD 0 0, true)) := gbr_first zs (by omega)
  obtain ⟨b, off, rfl, _⟩ := seg_some hs (by omega)
  obtain ⟨z, hzz⟩ : ∃ z : Nat, zs.getD 0 0 = (z : Int) := ⟨(zs.getD 0 0).toNat, by omega⟩
  rw [hzz] at HB hr
  rw [hzz, Int.toNat_natCast] at hc hy hyl
  obtain ⟨D, hD⟩ : ∃ D : Nat, D = len - z := ⟨_, rfl⟩
  obtain ⟨yl, hyl2⟩ : ∃ yl, ys.length = yl := ⟨_, rfl⟩
  have HSeg : Hid (∀ o, o = off + 1 ∨ yl = 0 → Seg w (some ⟨b, o, none⟩) yl ys) := fun o ho => by
    have h1 := seg_cut hs 1 yl o (by omega) ho
    rw [show yl = zs.length - z - 1 by omega, ← hy] at h1
    rw [show yl = zs.length - z - 1 by omega]
    exact h1
  have hlz : (len : Int) - (z : Int) = (D : Int) := by omega
  have hD1 : (1 : Int) ≤ (D : Int) := by omega
  have hDc : (D : Int) ≤ (cap : Int) := by omega
  have hgt : ¬ (len : Int) - 1 < (z : Int) := by omega
  have hDy : D - 1 = yl := by omega
  have hz255 : (z : Int) ≤ 255 := by omega
  have HF : Hid (yl ≤ cap - 1 ∧ (cap = 1 → yl = 0)) := by show _ ∧ _; omega
  rw [hyl2]
  clear hc hr hz h hs hy hyl hzz hyl2 hD hcap
  by_cases hc1 : cap = 1
  · subst hc1
    go_enter Tryd.func68, Tryd.ntmps68
    go_wp2_with fail
    refine HG.out.mono ?_
    rintro e w' ⟨rfl, rfl⟩
    rw [HB.out]
    dsimp only
    go_wp2_with fail
    go_ret2
    exact ⟨_, _, rfl, HSeg.out _ (.inr (HF.out.2 (by trivial))), (by have := HF.out.2 (by trivial); omega), rfl⟩
  · go_enter Tryd.func68, Tryd.ntmps68
    go_wp2_with fail
    refine HG.out.mono ?_
    rintro e w' ⟨rfl, rfl⟩
    rw [HB.out]
    dsimp only
    go_wp2_with fail
    go_ret2
    exact ⟨_, _, rfl, HSeg.out _ (.inl rfl), HF.out.1, rfl⟩

set_option maxHeartbeats 400000 in
theorem behind_no (a : Option Addr) (len cap : Nat) (zs : List Int) (w : World) (hs : Seg w a len zs) (h : prioCut zs = none) :
    Calls Tryd.prog 69 #[.slice a len cap] w fun e w' => e = .returned (.tuple #[.slice none 0 0, .bool false]) ∧ w' = w := by
  have h5 : (len : Int) < 5 := by
    unfold prioCut at h
    split at h
    · cases h
    · have := hs.1; omega
  clear h hs
  go_enter Tryd.func69, Tryd.ntmps69
  go_wp2_with fail
  go_ret2
  exact ⟨rfl, rfl⟩

theorem prioCut_some {zs ys : List Int} (h : prioCut zs = some ys) : 5 ≤ zs.length ∧ ys = zs.drop 5 ∧ ys.length = zs.length - 5 ∧ ys = (zs.drop 5).take (zs.length - 5) := by
  unfold prioCut at h
  split at h
  · injection h with h
    subst h
    refine ⟨by assumption, rfl, by simp, ?_⟩
    rw [List.take_of_length_le (by simp)]
  · cases h

set_option maxHeartbeats 400000 in
theorem behind_yes (a : Option Addr) (len cap : Nat) (zs ys : List Int) (w : World) (hs : Seg w a len zs) (hcap : len ≤ cap) (hl : len ≤ 1099511627776) (h : prioCut zs = some ys) :
    Calls Tryd.prog 69 #[.slice a len cap] w fun e w' => ∃ a' cap', e = .returned (.tuple #[.slice a' ys.length cap', .bool true]) ∧ Seg w a' ys.length ys ∧ ys.length ≤ cap' ∧ w' = w := by
  have hz := hs.1
  obtain ⟨hc, hy0, hyl, hy⟩ := prioCut_some h
  clear hy0
  obtain ⟨b, off, rfl, _⟩ := seg_some hs (by omega)
  obtain ⟨yl, hyl2⟩ : ∃ yl, ys.length = yl := ⟨_, rfl⟩
  have HSeg : Hid (∀ o, o = off + 5 ∨ yl = 0 → Seg w (some ⟨b, o, none⟩) yl ys) := fun o ho => by
    have h1 := seg_cut hs 5 yl o (by omega) ho
    rw [show yl = zs.length - 5 by omega, ← hy] at h1
    rw [show yl = zs.length - 5 by omega]
    exact h1
  have hgt : ¬ (len : Int) < 5 := by omega
  have hge : (5 : Int) ≤ (len : Int) := by omega
  have hDy : len - 5 = yl := by omega
  have hlc : (len : Int) ≤ (cap : Int) := by omega
  have HF : Hid (yl ≤ cap - 5 ∧ (cap = 5 → yl = 0)) := by show _ ∧ _; omega
  rw [hyl2]
  clear hc hz h hs hy hyl hyl2
  by_cases hc1 : cap = 5
  all_goals
    go_enter Tryd.func69, Tryd.ntmps69
    go_wp2_with fail
    go_ret2
  · exact ⟨_, _, rfl, HSeg.out _ (.inr (HF.out.2 hc1)), (by have := HF.out.2 hc1; omega), rfl⟩
  · exact ⟨_, _, rfl, HSeg.out _ (.inl rfl), HF.out.1, rfl⟩

end Go.Proofs.YtpjldfpipchmjadDoor
