/- Small numbers, the order's bytes, and bits. -/
import Derived.Test.YtdfaliadkpdfpaaOg
namespace Go.Proofs.Ytdfaliadkpdfpaa
set_option linter.unusedSimpArgs false
set_option linter.unusedVariables false
open Go.RowKit

set_option maxHeartbeats 800000 in
theorem L_any (w : World) : Calls Try.prog 12 #[] w fun e w' => e = .returned (num LL) ∧ Below w.heap.size w w' := by
  have HR0 := Lib.hid (Bk.new w z25 25)
  have HB0 := Lib.hid (bl_alloc (bl0 w) (.cells z25.toArray 25))
  go_enter Try.func12, Try.ntmps12
  go_wp2_with (first | (refine wpList_alloc_z rfl 25 rfl z25 zero25 ?_) | fail)
  refine (order_any _).mono ?_; rintro e u2 ⟨rfl, hb2⟩
  have HR := Lib.hid (HR0.out.keep hb2)
  have HB := Lib.hid (bl_call HB0.out hb2)
  have HT := Lib.hid (Bk.new u2 z40 40)
  clear hb2 HR0 HB0
  go_wp2_with (first | (refine wpList_alloc_z rfl 40 rfl z40 zero40 ?_) | (refine wpList_store_bk rfl 40 _ _ rfl u2.heap.size rfl (cs64 (wd LL)) z40 rfl HT.out (wd_info _) (wd_zlen _) (cs64_one _) ?_) | fail)
  have hr2 := HR.out.lt
  have HR := Lib.hid ((HR.out.old (.cells z40.toArray 40)).other (show w.heap.size ≠ u2.heap.size by omega) (cs64 (wd LL)).toArray)
  have HT := Lib.hid (HT.out.setRow (cs64 (wd LL)))
  have hs2 := HB.out.size
  have HB := Lib.hid (bl_setRow (bl_alloc HB.out (.cells z40.toArray 40)) hs2 (cs64 (wd LL)).toArray)
  refine (join_any LL u2.heap.size _ HT.out).mono ?_; rintro e u5 ⟨rfl, hb5⟩
  have HR := Lib.hid (HR.out.keep hb5)
  have HB := Lib.hid (bl_call HB.out hb5)
  clear hb5
  have HN := Lib.hid (num_info LL)
  unfold num
  go_wp2_with (first | (refine wpList_store_bk rfl 25 _ _ rfl w.heap.size rfl (cs8 (le 32 LL)) z25 rfl HR.out HN.out (num_zlen _) (cs8_all _) ?_) | fail)
  exact ret_bk rfl w.heap.size _ _ rfl rfl (HR.out.setRow _) Try.underlying25 rfl HN.out ⟨rfl, bl_setRow HB.out (by omega) _⟩

theorem small_val (n i : Nat) (hi : i < 8) : B8 (UInt8.ofNat (n / 256 ^ i)) = Value.int .u8 ((n : Int) / 2 ^ (8 * i) % 256) := by
  have e : (256 : Nat) ^ i = 2 ^ (8 * i) := by rw [show (256 : Nat) = 2 ^ 8 from rfl, ← Nat.pow_mul]
  have e2 : ((n : Int) / 2 ^ (8 * i) % 256) = ((n / 2 ^ (8 * i) % 256 : Nat) : Int) := by simp
  rw [e2, e, B8]
  simp
theorem put_small (n : Nat) (hn : n < 256 ^ 8) : put_ n 8 = le 32 n := by
  have h := val_le 8 n
  rw [Nat.mod_eq_of_lt hn] at h
  have e : (le 32 n).take 8 = le 8 n := rfl
  rw [put_, e]
  have h2 := le_val (le 8 n ++ List.replicate (32 - 8) 0)
  rw [val_append, val_zeros, h, List.length_append, le_length, List.length_replicate] at h2
  exact h2.symm
set_option maxHeartbeats 800000 in
theorem small_any (n : Nat) (hn : n < 18446744073709551616) (w : World) : Calls Try.prog 8 #[.int .u64 (n : Int)] w fun e w' => e = .returned (num n) ∧ Below w.heap.size w w' := by
  have HP := Lib.hid (put_small n (by omega))
  have HR := Lib.hid ((Bk.new w z25 25).old (.cells z25.toArray 25))
  have HO := Lib.hid (show Bk ((w.alloc (.cells z25.toArray 25)).alloc (.cells z25.toArray 25)) (w.heap.size + 1) (cs8 (put_ n 0)) from by
    have := Bk.new (w.alloc (.cells z25.toArray 25)) z25 25
    rw [show cs8 (put_ n 0) = z25 by rw [put_]; rfl]
    simpa using this)
  have HB := Lib.hid (bl_alloc (bl_alloc (bl0 w) (.cells z25.toArray 25)) (.cells z25.toArray 25))
  go_enter Try.func8, Try.ntmps8
  go_wp2_with (first | (refine wpList_alloc_z rfl 25 rfl z25 zero25 ?_) | fail)
  go_loopw [4] (fun v wr => ∃ i : Nat, i ≤ 8 ∧ v = .int .i64 (i : Int) ∧ Hid (Bk wr w.heap.size z25) ∧ Hid (Bk wr (w.heap.size + 1) (cs8 (put_ n i))) ∧ Hid (Below w.heap.size w wr)) (fun v _ => 8 - (intOf v).toNat)
  case atStart => exact ⟨0, by omega, rfl, HR, HO, HB⟩
  case round =>
    clear HR HO HB
    obtain ⟨i, hi, rfl, HR, HO, HB⟩ := hrel
    by_cases hlt : i < 8
    · have hpl : (cs8 (put_ n i)).length = 32 := by rw [cs8_length, put_length _ _ (by omega)]
      have hco := HO.out.cell (List.getElem?_eq_getElem (show i < (cs8 (put_ n i)).length by omega))
      have hfo := HO.out.frozen i
      generalize (cs8 (put_ n i))[i]'(by omega) = u at hco
      have HV := Lib.hid (small_val n i hlt)
      have HS := Lib.hid (put_step n i (by omega))
      clear hpl
      go_wp2_with fail
      go_roundw
      case rel =>
        refine ⟨i + 1, by omega, by go_num, Lib.hid (HR.out.setCell_ne (by omega) _ _), Lib.hid ?_, Lib.hid (bl_setCell HB.out (by omega) _ _)⟩
        rw [← HS.out, cs8, List.map_set, HV.out]
        exact HO.out.setCell _ _
      case measure => simp [intOf]; omega
    · obtain rfl : i = 8 := by omega
      have HN := Lib.hid (num_info n)
      rw [HP.out] at HO
      go_wp2_with (first | (refine wpList_load_at rfl 25 _ rfl _ rfl (cs8 (le 32 n)) _ (HO.out.at_) Try.underlying25 rfl HN.out ?_) | (refine wpList_store_bk rfl 25 _ _ rfl w.heap.size rfl (cs8 (le 32 n)) z25 rfl HR.out HN.out (num_zlen _) (cs8_all _) ?_))
      exact ret_bk rfl w.heap.size _ _ rfl rfl (HR.out.setRow _) Try.underlying25 rfl HN.out ⟨rfl, bl_setRow HB.out (Nat.le_refl _) _⟩
end Go.Proofs.Ytdfaliadkpdfpaa
