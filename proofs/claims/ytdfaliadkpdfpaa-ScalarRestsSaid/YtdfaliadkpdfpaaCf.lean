/- Numbers of words compared: slices.CompareFunc at cmp.Compare, below. -/
import Derived.Test.YtdfaliadkpdfpaaRp
namespace Go.Proofs.Ytdfaliadkpdfpaa
set_option linter.unusedSimpArgs false
set_option linter.unusedVariables false
open Go.RowKit

theorem cmpW_step (a b : List UInt64) (i : Nat) (ha : i < a.length) (hb : i < b.length) : cmpW (a.drop i) (b.drop i) = if cmp1 a[i].toNat b[i].toNat ≠ 0 then cmp1 a[i].toNat b[i].toNat else cmpW (a.drop (i + 1)) (b.drop (i + 1)) := by
  rw [List.drop_eq_getElem_cons ha, List.drop_eq_getElem_cons hb, cmpW, cmp1]
  split
  · rfl
  · split
    · rfl
    · simp
theorem cmp1_lim (a b : Nat) : cmp1 a b = -1 ∨ cmp1 a b = 0 ∨ cmp1 a b = 1 := by
  unfold cmp1
  split
  · exact .inl rfl
  · split
    · exact .inr (.inr rfl)
    · exact .inr (.inl rfl)

set_option maxHeartbeats 800000 in
theorem cf_any (a b : List UInt64) (g k : Nat) (w : World) (ha : a.length = 4) (hb : b.length = 4) (hA : Bk w g (cs64 a)) (hB : Bk w k (cs64 b)) :
    Calls Try.prog 26 #[.slice (some ⟨g, 0, none⟩) 4 4, .slice (some ⟨k, 0, none⟩) 4 4, .func (.func 27) #[] #[]] w fun e w' => e = .returned (.int .i64 (cmpW a b)) ∧ w' = w := by
  have HA := Lib.hid hA
  have HB := Lib.hid hB
  have HLA := Lib.hid ha
  have HLB := Lib.hid hb
  obtain ⟨c, hc⟩ : ∃ c, cmpW a b = c := ⟨_, rfl⟩
  have HC := Lib.hid hc
  rw [hc]
  clear hA hB ha hb hc
  go_enter Try.func26, Try.ntmps26
  go_wp2
  go_loopw [13] (fun v wr => ∃ i : Nat, i ≤ 4 ∧ v = .int .i64 (i : Int) ∧ wr = w ∧ Hid (cmpW (a.drop i) (b.drop i) = c)) (fun v _ => 4 - (intOf v).toNat)
  case atStart => exact ⟨0, by omega, rfl, rfl, by simpa using HC⟩
  case round =>
    obtain ⟨i, hi, rfl, rfl, HI⟩ := hrel
    by_cases hlt : i < 4
    · have hia : i < a.length := by rw [HLA.out]; exact hlt
      have hib : i < b.length := by rw [HLB.out]; exact hlt
      have e1 : (cs64 a)[i]? = some (.int .u64 ((a[i].toNat : Nat) : Int)) := by simp [cs64, hia, B64]
      have e2 : (cs64 b)[i]? = some (.int .u64 ((b[i].toNat : Nat) : Int)) := by simp [cs64, hib, B64]
      have c1 := HA.out.cell e1
      have c2 := HB.out.cell e2
      have HS := Lib.hid (cmpW_step a b i hia hib)
      generalize a[i].toNat = x at c1 HS
      generalize b[i].toNat = y at c2 HS
      clear e1 e2 hia hib
      by_cases hz : cmp1 x y = 0
      · have HS2 : Hid (cmpW (a.drop (i + 1)) (b.drop (i + 1)) = c) := Lib.hid (by have := HS.out; rw [hz, if_neg (by simp), HI.out] at this; exact this.symm)
        clear HS
        go_wp2_with fail
        refine (cmp_any x y _).mono ?_; rintro e w1 ⟨rfl, rfl⟩
        rw [hz]
        go_wp2
        go_roundw
        case rel => exact ⟨i + 1, by omega, by go_num, trivial, HS2⟩
        case measure => simp [intOf]; omega
      · have HS2 : Hid (cmp1 x y = c) := Lib.hid (by have := HS.out; rw [if_pos hz, HI.out] at this; exact this.symm)
        have hz2 : (cmp1 x y == 0) = false := by simp [hz]
        clear HS
        go_wp2_with fail
        refine (cmp_any x y _).mono ?_; rintro e w1 ⟨rfl, rfl⟩
        go_wp2
        go_ret
        exact ⟨by rw [HS2.out]; rfl, rfl⟩
    · obtain rfl : i = 4 := by omega
      go_wp2
      go_ret
      have := HI.out
      rw [List.drop_eq_nil_of_le (by rw [HLA.out]; omega), List.drop_eq_nil_of_le (by rw [HLB.out]; omega), cmpW] at this
      · exact ⟨by rw [← this]; rfl, rfl⟩
      · intro _ _ _ _ h; cases h
end Go.Proofs.Ytdfaliadkpdfpaa
