/- ScalarRests, case 1 of where the cut lies. -/
import Derived.Test.YtdfaliadkpdfpaaAc
namespace Go.Proofs.Ytdfaliadkpdfpaa
set_option linter.unusedSimpArgs false
set_option linter.unusedVariables false
open Go.RowKit

set_option maxHeartbeats 800000 in
set_option maxRecDepth 16384 in
theorem ScalarRests_1 {A : Option Addr} {n c : Nat} {l : List UInt8} (cut : Int) (k : Nat) (w : World) (hr : Rd w w.heap.size A n c l) (hn : n ≤ 64) (hc : (n : Int) < cut) (hk : k = n / 2) :
    Calls Try.prog 3 #[.slice A n c, .int .i64 cut] w fun e w' => e = .returned (.bool true) ∧ Below w.heap.size w w' := by
  have hkn : k ≤ n := by omega
  have hd0 : decide (64 < (n : Int)) = false := by simp; omega
  have hd1 : decide (cut < 0) = false := by simp; omega
  have hd2 : decide ((n : Int) < cut) = true := by simp [hc]
  have HB := Lib.hid (bl0 w)
  have HR := Lib.hid hr
  have hlen := hr.len
  have hcap := hr.cap
  clear hr
  go_enter Try.func3, Try.ntmps3
  go_wp2_with fail
  refine (lives_any _).mono ?_; rintro e u1 ⟨rfl, hb⟩
  have HB := Lib.hid (bl_call HB.out hb)
  clear hb
  go_wp2_with fail
  try rw [show ((n : Int) / 2) = (k : Int) by omega]
  clear hk hc hd1 hd2
  refine (Rest_any A n c l hn _ ((HR.out.below HB.out).more HB.out.size)).mono ?_; rintro e u2 ⟨rfl, hb⟩
  have HB := Lib.hid (bl_call HB.out hb)
  clear hb
  have HT := Lib.hid (Bk.new u2 z25 25)
  have HN := Lib.hid (num_info (val l % LL))
  go_wp2_with (first | (refine wpList_alloc_z rfl 25 rfl z25 zero25 ?_) | (refine wpList_store_bk rfl 25 _ _ rfl u2.heap.size rfl (cs8 (le 32 (val l % LL))) z25 rfl HT.out HN.out (num_zlen _) (cs8_all _) ?_) | fail)
  obtain ⟨v5, b5, e1, e2, h5, hold, hbl⟩ := nv_ex u2 (val l % LL)
  rw [e1, e2]
  have hl5 : w.heap.size ≤ b5 := by rw [← e2]; exact HB.out.size
  clear e1 e2
  have H5 := Lib.hid h5
  clear h5
  have HB := Lib.hid (bl_call HB.out hbl)
  clear hold hbl
  try rw [show ((n : Int) / 2) = (k : Int) by omega]
  refine (Rest_any A k c (l.take k) (by omega) _ (((HR.out.below HB.out).more HB.out.size).take_ hkn)).mono ?_; rintro e u3 ⟨rfl, hb⟩
  have H5 := Lib.hid (H5.out.keep hb)
  have HB := Lib.hid (bl_call HB.out hb)
  clear hb
  have HT := Lib.hid (Bk.new u3 z25 25)
  have HN := Lib.hid (num_info (val (l.take k) % LL))
  go_wp2_with (first | (refine wpList_val rfl (.slice (restAt A c k) (n - k) (c - k)) (exec_slice22_lo _ _ rfl rfl rfl hkn (by omega)) ?_) | (refine wpList_alloc_z rfl 25 rfl z25 zero25 ?_) | (refine wpList_store_bk rfl 25 _ _ rfl u3.heap.size rfl (cs8 (le 32 (val (l.take k) % LL))) z25 rfl HT.out HN.out (num_zlen _) (cs8_all _) ?_) | fail)
  obtain ⟨v7, b7, e1, e2, h7, hold, hbl⟩ := nv_ex u3 (val (l.take k) % LL)
  rw [e1, e2]
  have hl7 : w.heap.size ≤ b7 := by rw [← e2]; exact HB.out.size
  clear e1 e2
  have H7 := Lib.hid h7
  clear h7
  have hn5_7 := (hold _ _ H5.out).2
  have H5 := Lib.hid (hold _ _ H5.out).1
  have HB := Lib.hid (bl_call HB.out hbl)
  clear hold hbl
  try rw [show ((n : Int) / 2) = (k : Int) by omega]
  refine (Rest_any _ (n - k) (c - k) (l.drop k) (by omega) _ (((HR.out.below HB.out).more HB.out.size).rest hkn)).mono ?_; rintro e u4 ⟨rfl, hb⟩
  have H5 := Lib.hid (H5.out.keep hb)
  have H7 := Lib.hid (H7.out.keep hb)
  have HB := Lib.hid (bl_call HB.out hb)
  clear hb
  have HT := Lib.hid (Bk.new u4 z25 25)
  have HN := Lib.hid (num_info (val (l.drop k) % LL))
  go_wp2_with (first | (refine wpList_alloc_z rfl 25 rfl z25 zero25 ?_) | (refine wpList_store_bk rfl 25 _ _ rfl u4.heap.size rfl (cs8 (le 32 (val (l.drop k) % LL))) z25 rfl HT.out HN.out (num_zlen _) (cs8_all _) ?_) | fail)
  obtain ⟨v9, b9, e1, e2, h9, hold, hbl⟩ := nv_ex u4 (val (l.drop k) % LL)
  rw [e1, e2]
  have hl9 : w.heap.size ≤ b9 := by rw [← e2]; exact HB.out.size
  clear e1 e2
  have H9 := Lib.hid h9
  clear h9
  have hn5_9 := (hold _ _ H5.out).2
  have H5 := Lib.hid (hold _ _ H5.out).1
  have hn7_9 := (hold _ _ H7.out).2
  have H7 := Lib.hid (hold _ _ H7.out).1
  have HB := Lib.hid (bl_call HB.out hbl)
  clear hold hbl
  try rw [show ((n : Int) / 2) = (k : Int) by omega]
  have HSUM := Lib.hid (val_cut l k (by omega))
  go_loopw [11] (fun v11 wr => ∃ i : Nat, i ≤ k ∧ v11 = .int .i64 (i : Int) ∧ Hid (Bk wr b5 (cs8 (le 32 (val l % LL)))) ∧ Hid (Bk wr b7 (cs8 (le 32 (val (l.take k) % LL)))) ∧ Hid (Bk wr b9 (cs8 (le 32 (val (l.drop k) * 256 ^ i % LL)))) ∧ Hid (Below w.heap.size w wr)) (fun v11 _ => k - (intOf v11).toNat)
  case atStart => exact ⟨0, by omega, rfl, H5, H7, by rw [Nat.pow_zero, Nat.mul_one]; exact H9, HB⟩
  case round =>
    clear H5 H7 H9 HB
    obtain ⟨i, hi, rfl, H5, H7, H9, HB⟩ := hrel
    by_cases hlt : i < k
    · have HSTEP := Lib.hid (mul_more (val (l.drop k)) i)
      go_wp2_with fail
      have hR := Tr.stays
      refine reg_start Tr follows_mixed ?_
      have H5 := Lib.hid H5.out.drew
      have H7 := Lib.hid H7.out.drew
      have H9 := Lib.hid H9.out.drew
      have HB := Lib.hid HB.out.drew
      refine reg_fork (rs := [0, 1]) hR (by kernel_rfl) (by simp) ?_
      intro i hi; simp only [List.mem_cons, List.not_mem_nil, or_false] at hi
      rcases hi with rfl | rfl
      · refine ⟨_, rfl, fun K hK => ?_⟩
        try simp only [Act.put, List.getElem_toArray, List.getElem_cons_succ, List.getElem_cons_zero, List.setIfInBounds_toArray, List.set_cons_zero, List.set_cons_succ]
        rw [if_pos (by rfl)]
        refine wp_val (num (val (l.drop k) * 256 ^ i % LL)) (exec_load_at 25 _ rfl ⟨b9, 0, none⟩ rfl (cs8 (le 32 (val (l.drop k) * 256 ^ i % LL))) _ H9.out.at_ Try.underlying25 rfl (num_info _)) ?_
        refine hK.out _ _ trivial ?_
        clear hK K
        try simp only [Act.put, List.getElem_toArray, List.getElem_cons_succ, List.getElem_cons_zero, List.setIfInBounds_toArray, List.set_cons_zero, List.set_cons_succ]
        refine reg_step hR 1 (by kernel_rfl) rfl fun K hK => ?_
        try simp only [Act.put, List.getElem_toArray, List.getElem_cons_succ, List.getElem_cons_zero, List.setIfInBounds_toArray, List.set_cons_zero, List.set_cons_succ]
        rw [if_pos (by rfl)]
        go_simp
        refine (small_any 256 (by omega) _).mono ?_; rintro e x1 ⟨rfl, hb⟩
        refine hK.out _ _ trivial ?_
        clear hK K
        have H5 := Lib.hid (H5.out.keep hb)
        have H7 := Lib.hid (H7.out.keep hb)
        have H9 := Lib.hid (H9.out.keep hb)
        have HB := Lib.hid (bl_call HB.out hb)
        clear hb
        try simp only [Act.put, List.getElem_toArray, List.getElem_cons_succ, List.getElem_cons_zero, List.setIfInBounds_toArray, List.set_cons_zero, List.set_cons_succ]
        refine reg_step hR 2 (by kernel_rfl) rfl fun K hK => ?_
        try simp only [Act.put, List.getElem_toArray, List.getElem_cons_succ, List.getElem_cons_zero, List.setIfInBounds_toArray, List.set_cons_zero, List.set_cons_succ]
        rw [if_pos (by rfl)]
        go_simp
        refine (Mul_any (val (l.drop k) * 256 ^ i % LL) 256 (rest_big _) (by decide) _).mono ?_; rintro e x2 ⟨rfl, hb⟩
        rw [HSTEP.out]
        refine hK.out _ _ trivial ?_
        clear hK K
        have H5 := Lib.hid (H5.out.keep hb)
        have H7 := Lib.hid (H7.out.keep hb)
        have H9 := Lib.hid (H9.out.keep hb)
        have HB := Lib.hid (bl_call HB.out hb)
        clear hb
        try simp only [Act.put, List.getElem_toArray, List.getElem_cons_succ, List.getElem_cons_zero, List.setIfInBounds_toArray, List.set_cons_zero, List.set_cons_succ]
        refine reg_step hR 3 (by kernel_rfl) rfl fun K hK => ?_
        try simp only [Act.put, List.getElem_toArray, List.getElem_cons_succ, List.getElem_cons_zero, List.setIfInBounds_toArray, List.set_cons_zero, List.set_cons_succ]
        rw [if_pos (by rfl)]
        refine wp_store_bk 25 _ _ rfl b9 rfl (cs8 (le 32 (val (l.drop k) * 256 ^ (i + 1) % LL))) (cs8 (le 32 (val (l.drop k) * 256 ^ i % LL))) rfl H9.out (num_info _) (by rw [cs8_length, cs8_length, le_length, le_length]) (cs8_all _) ?_
        refine hK.out _ _ trivial ?_
        clear hK K
        have H5 := Lib.hid (H5.out.other (show b5 ≠ b9 by omega) (cs8 (le 32 (val (l.drop k) * 256 ^ (i + 1) % LL))).toArray)
        have H7 := Lib.hid (H7.out.other (show b7 ≠ b9 by omega) (cs8 (le 32 (val (l.drop k) * 256 ^ (i + 1) % LL))).toArray)
        have H9 := Lib.hid (H9.out.setRow (cs8 (le 32 (val (l.drop k) * 256 ^ (i + 1) % LL))))
        have HB := Lib.hid (bl_setRow HB.out (show w.heap.size ≤ b9 by omega) (cs8 (le 32 (val (l.drop k) * 256 ^ (i + 1) % LL))).toArray)
        try simp only [Act.put, List.getElem_toArray, List.getElem_cons_succ, List.getElem_cons_zero, List.setIfInBounds_toArray, List.set_cons_zero, List.set_cons_succ]
        refine reg_done (by kernel_rfl) ?_ _
        go_wp2
        go_roundw
        case rel => exact ⟨i + 1, by omega, by go_num, H5, H7, H9, HB⟩
        case measure => simp [intOf]; omega
      · refine ⟨_, rfl, fun K hK => ?_⟩
        try simp only [Act.put, List.getElem_toArray, List.getElem_cons_succ, List.getElem_cons_zero, List.setIfInBounds_toArray, List.set_cons_zero, List.set_cons_succ]
        rw [if_pos (by rfl)]
        go_simp
        refine (small_any 256 (by omega) _).mono ?_; rintro e x1 ⟨rfl, hb⟩
        refine hK.out _ _ trivial ?_
        clear hK K
        have H5 := Lib.hid (H5.out.keep hb)
        have H7 := Lib.hid (H7.out.keep hb)
        have H9 := Lib.hid (H9.out.keep hb)
        have HB := Lib.hid (bl_call HB.out hb)
        clear hb
        try simp only [Act.put, List.getElem_toArray, List.getElem_cons_succ, List.getElem_cons_zero, List.setIfInBounds_toArray, List.set_cons_zero, List.set_cons_succ]
        refine reg_step hR 0 (by kernel_rfl) rfl fun K hK => ?_
        try simp only [Act.put, List.getElem_toArray, List.getElem_cons_succ, List.getElem_cons_zero, List.setIfInBounds_toArray, List.set_cons_zero, List.set_cons_succ]
        rw [if_pos (by rfl)]
        refine wp_val (num (val (l.drop k) * 256 ^ i % LL)) (exec_load_at 25 _ rfl ⟨b9, 0, none⟩ rfl (cs8 (le 32 (val (l.drop k) * 256 ^ i % LL))) _ H9.out.at_ Try.underlying25 rfl (num_info _)) ?_
        refine hK.out _ _ trivial ?_
        clear hK K
        try simp only [Act.put, List.getElem_toArray, List.getElem_cons_succ, List.getElem_cons_zero, List.setIfInBounds_toArray, List.set_cons_zero, List.set_cons_succ]
        refine reg_step hR 2 (by kernel_rfl) rfl fun K hK => ?_
        try simp only [Act.put, List.getElem_toArray, List.getElem_cons_succ, List.getElem_cons_zero, List.setIfInBounds_toArray, List.set_cons_zero, List.set_cons_succ]
        rw [if_pos (by rfl)]
        go_simp
        refine (Mul_any (val (l.drop k) * 256 ^ i % LL) 256 (rest_big _) (by decide) _).mono ?_; rintro e x2 ⟨rfl, hb⟩
        rw [HSTEP.out]
        refine hK.out _ _ trivial ?_
        clear hK K
        have H5 := Lib.hid (H5.out.keep hb)
        have H7 := Lib.hid (H7.out.keep hb)
        have H9 := Lib.hid (H9.out.keep hb)
        have HB := Lib.hid (bl_call HB.out hb)
        clear hb
        try simp only [Act.put, List.getElem_toArray, List.getElem_cons_succ, List.getElem_cons_zero, List.setIfInBounds_toArray, List.set_cons_zero, List.set_cons_succ]
        refine reg_step hR 3 (by kernel_rfl) rfl fun K hK => ?_
        try simp only [Act.put, List.getElem_toArray, List.getElem_cons_succ, List.getElem_cons_zero, List.setIfInBounds_toArray, List.set_cons_zero, List.set_cons_succ]
        rw [if_pos (by rfl)]
        refine wp_store_bk 25 _ _ rfl b9 rfl (cs8 (le 32 (val (l.drop k) * 256 ^ (i + 1) % LL))) (cs8 (le 32 (val (l.drop k) * 256 ^ i % LL))) rfl H9.out (num_info _) (by rw [cs8_length, cs8_length, le_length, le_length]) (cs8_all _) ?_
        refine hK.out _ _ trivial ?_
        clear hK K
        have H5 := Lib.hid (H5.out.other (show b5 ≠ b9 by omega) (cs8 (le 32 (val (l.drop k) * 256 ^ (i + 1) % LL))).toArray)
        have H7 := Lib.hid (H7.out.other (show b7 ≠ b9 by omega) (cs8 (le 32 (val (l.drop k) * 256 ^ (i + 1) % LL))).toArray)
        have H9 := Lib.hid (H9.out.setRow (cs8 (le 32 (val (l.drop k) * 256 ^ (i + 1) % LL))))
        have HB := Lib.hid (bl_setRow HB.out (show w.heap.size ≤ b9 by omega) (cs8 (le 32 (val (l.drop k) * 256 ^ (i + 1) % LL))).toArray)
        try simp only [Act.put, List.getElem_toArray, List.getElem_cons_succ, List.getElem_cons_zero, List.setIfInBounds_toArray, List.set_cons_zero, List.set_cons_succ]
        refine reg_done (by kernel_rfl) ?_ _
        go_wp2
        go_roundw
        case rel => exact ⟨i + 1, by omega, by go_num, H5, H7, H9, HB⟩
        case measure => simp [intOf]; omega
    · obtain rfl : k = i := by omega
      have hb5 := H5.out.lt
      have hb7 := H7.out.lt
      have hb9 := H9.out.lt
      have HE := Lib.hid (Ow.lit wr #[] [] rfl (by simp))
      have hwA := bl_alloc (bl0 wr) (.cells #[] 5)
      have HRA := Lib.hid (HR.out.below (bl_call HB.out hwA))
      have hsA : (wr.alloc (.cells #[] 5)).heap.size = wr.heap.size + 1 := by simp
      -- STAGE4
      go_wp2_with (first | (at_builtin; refine wpList_app rfl _ _ rfl rfl HE.out rfl HRA.out (by simp; omega) (by simp) ?_; intro v2 w2 ho2 hg2 hv2) | (at_builtin; refine wpList_appz rfl _ _ rfl rfl ho2 (64 - n) rfl (by omega) (by simp; omega) (by omega) (by have := hg2.size; simp at this; omega) ?_; intro v3 w3 ho3 hg3) | fail)
      -- STAGE5
      have hsw := HB.out.size
      have H5 := Lib.hid (((H5.out.old (.cells #[] 5)).own HE.out hb5 hg2).own ho2 hb5 hg3)
      have H7 := Lib.hid (((H7.out.old (.cells #[] 5)).own HE.out hb7 hg2).own ho2 hb7 hg3)
      have H9 := Lib.hid (((H9.out.old (.cells #[] 5)).own HE.out hb9 hg2).own ho2 hb9 hg3)
      have HB := Lib.hid (bl_own (bl_own (bl_call HB.out hwA) HE.out hsw hg2) ho2 hsw hg3)
      obtain ⟨A3, c3, rfl, hr3⟩ := ho3.rdN (n := 64) (by simp; omega)
      have hx := Rest_any A3 64 c3 _ (by omega) w3 hr3
      rw [List.nil_append, val_more] at hx
      refine hx.mono ?_; rintro e u7 ⟨rfl, hb⟩
      have H5 := Lib.hid (H5.out.keep hb)
      have H7 := Lib.hid (H7.out.keep hb)
      have H9 := Lib.hid (H9.out.keep hb)
      have HB := Lib.hid (bl_call HB.out hb)
      clear hb hx hr3 ho3 hg3 ho2 hg2 hv2 HE HRA hwA hsA hsw hb5 hb7 hb9
      have HT := Lib.hid (Bk.new u7 z25 25)
      have HN := Lib.hid (num_info (val l % LL))
      go_wp2_with (first | (refine wpList_alloc_z rfl 25 rfl z25 zero25 ?_) | (refine wpList_store_bk rfl 25 _ _ rfl u7.heap.size rfl (cs8 (le 32 (val l % LL))) z25 rfl HT.out HN.out (num_zlen _) (cs8_all _) ?_) | fail)
      obtain ⟨v12, b12, e1, e2, h12, hold, hbl⟩ := nv_ex u7 (val l % LL)
      rw [e1, e2]
      have hl12 : w.heap.size ≤ b12 := by rw [← e2]; exact HB.out.size
      clear e1 e2
      have H12 := Lib.hid h12
      clear h12
      have hn5_12 := (hold _ _ H5.out).2
      have H5 := Lib.hid (hold _ _ H5.out).1
      have hn7_12 := (hold _ _ H7.out).2
      have H7 := Lib.hid (hold _ _ H7.out).1
      have hn9_12 := (hold _ _ H9.out).2
      have H9 := Lib.hid (hold _ _ H9.out).1
      have HB := Lib.hid (bl_call HB.out hbl)
      clear hold hbl
      go_loopw [14, 15] (fun v14 v15 wr => ∃ i : Nat, i ≤ 256 ∧ v15 = .int .i64 (i : Int) ∧ v14 = .int .i64 ((bitN (val l % LL) i : Nat) : Int) ∧ Hid (Bk wr b5 (cs8 (le 32 (val l % LL)))) ∧ Hid (Bk wr b7 (cs8 (le 32 (val (l.take k) % LL)))) ∧ Hid (Bk wr b9 (cs8 (le 32 (val (l.drop k) * 256 ^ k % LL)))) ∧ Hid (Bk wr b12 (cs8 (le 32 (val l % LL)))) ∧ Hid (Below w.heap.size w wr)) (fun _ v15 _ => 256 - (intOf v15).toNat)
      case atStart => exact ⟨0, by omega, rfl, rfl, H5, H7, H9, H12, HB⟩
      case round =>
        clear H5 H7 H9 H12 HB
        obtain ⟨i, hi, rfl, rfl, H5, H7, H9, H12, HB⟩ := hrel
        by_cases hlt : i < 256
        · have hbm := bitN_le (val l % LL) i
          have HBN := Lib.hid (show bitN (val l % LL) (i + 1) = bitN (val l % LL) i + (val l % LL) / 2 ^ i % 2 from rfl)
          generalize bitN (val l % LL) i = m at hbm HBN ⊢
          have HI5 := Lib.hid (num_info (val l % LL))
          go_wp2_with (first | (refine wpList_load_at rfl 25 _ rfl ⟨b5, 0, none⟩ rfl (cs8 (le 32 (val l % LL))) _ (H5.out.at_) Try.underlying25 rfl HI5.out ?_) | fail)
          refine (Bit_any (val l % LL) i hlt _).mono ?_; rintro e u3 ⟨rfl, hb⟩
          have H5 := Lib.hid (H5.out.keep hb)
          have H7 := Lib.hid (H7.out.keep hb)
          have H9 := Lib.hid (H9.out.keep hb)
          have H12 := Lib.hid (H12.out.keep hb)
          have HB := Lib.hid (bl_call HB.out hb)
          clear hb
          by_cases hbit : (val l % LL) / 2 ^ i % 2 = 1
          · rw [decide_eq_true hbit]
            have HBN := Lib.hid (show bitN (val l % LL) (i + 1) = m + 1 by rw [HBN.out, hbit])
            clear hbit
            go_wp2
            go_roundw
            case rel => exact ⟨i + 1, by omega, by go_num, by rw [HBN.out]; go_num, H5, H7, H9, H12, HB⟩
            case measure => simp [intOf]; omega
          · rw [decide_eq_false hbit]
            have HBN := Lib.hid (show bitN (val l % LL) (i + 1) = m by rw [HBN.out]; omega)
            clear hbit
            go_wp2
            go_roundw
            case rel => exact ⟨i + 1, by omega, by go_num, by rw [HBN.out], H5, H7, H9, H12, HB⟩
            case measure => simp [intOf]; omega
        · obtain rfl : i = 256 := by omega
          obtain ⟨bz, hz2⟩ : ∃ bz, decide (val l % LL = 0) = bz := ⟨_, rfl⟩
          have HZ2 := Lib.hid hz2
          have HZ1 := Lib.hid (show decide (bitN (val l % LL) 256 = 0) = bz by rw [bitN_iff _ (rest_big (val l)), hz2])
          clear hz2
          generalize bitN (val l % LL) 256 = m at HZ1 ⊢
          go_wp2_with fail
          -- STAGE6
          have hR := Old.stays
          refine reg_start Old follows_mixed ?_
          have H5 := Lib.hid H5.out.drew
          have H7 := Lib.hid H7.out.drew
          have H9 := Lib.hid H9.out.drew
          have H12 := Lib.hid H12.out.drew
          have HB := Lib.hid HB.out.drew
-- region 21 of f3: 35 operations, draws: true
          refine reg_take (v := ?_) hR 0 rfl (by kernel_rfl) (by kernel_rfl) (by kernel_rfl) (fun _ _ _ h => h) (by rfl) ?_ ?_
          rotate_left
          · intro W hW; go_simp; try with_reducible rfl
          try simp only [Act.put, List.getElem_toArray, List.getElem_cons_succ, List.getElem_cons_zero, List.setIfInBounds_toArray, List.set_cons_zero, List.set_cons_succ]
          refine reg_take (v := ?_) hR 1 rfl (by kernel_rfl) (by kernel_rfl) (by kernel_rfl) (fun _ _ _ h => h) (by rfl) ?_ ?_
          rotate_left
          · intro W hW; go_simp; try with_reducible rfl
          try simp only [Act.put, List.getElem_toArray, List.getElem_cons_succ, List.getElem_cons_zero, List.setIfInBounds_toArray, List.set_cons_zero, List.set_cons_succ]
          refine reg_take (v := ?_) hR 2 rfl (by kernel_rfl) (by kernel_rfl) (by kernel_rfl) (fun _ _ _ h => h) (by rfl) ?_ ?_
          rotate_left
          · intro W hW; go_simp; try with_reducible rfl
          try simp only [Act.put, List.getElem_toArray, List.getElem_cons_succ, List.getElem_cons_zero, List.setIfInBounds_toArray, List.set_cons_zero, List.set_cons_succ]
          refine reg_take (v := ?_) hR 3 rfl (by kernel_rfl) (by kernel_rfl) (by kernel_rfl) (fun _ _ _ h => h) (by rfl) ?_ ?_
          rotate_left
          · intro W hW; go_simp; try with_reducible rfl
          try simp only [Act.put, List.getElem_toArray, List.getElem_cons_succ, List.getElem_cons_zero, List.setIfInBounds_toArray, List.set_cons_zero, List.set_cons_succ]
          refine reg_take (v := ?_) hR 4 rfl (by kernel_rfl) (by kernel_rfl) (by kernel_rfl) (fun _ _ _ h => h) (by rfl) ?_ ?_
          rotate_left
          · intro W hW; go_simp; try with_reducible rfl
          try simp only [Act.put, List.getElem_toArray, List.getElem_cons_succ, List.getElem_cons_zero, List.setIfInBounds_toArray, List.set_cons_zero, List.set_cons_succ]
          refine reg_take (v := ?_) hR 5 rfl (by kernel_rfl) (by kernel_rfl) (by kernel_rfl) (fun _ _ _ h => h) (by rfl) ?_ ?_
          rotate_left
          · intro W hW; go_simp; try with_reducible rfl
          try simp only [Act.put, List.getElem_toArray, List.getElem_cons_succ, List.getElem_cons_zero, List.setIfInBounds_toArray, List.set_cons_zero, List.set_cons_succ]
          refine reg_take (v := ?_) hR 6 rfl (by kernel_rfl) (by kernel_rfl) (by kernel_rfl) (fun _ _ _ h => h) (by rfl) ?_ ?_
          rotate_left
          · intro W hW; go_simp; try with_reducible rfl
          try simp only [Act.put, List.getElem_toArray, List.getElem_cons_succ, List.getElem_cons_zero, List.setIfInBounds_toArray, List.set_cons_zero, List.set_cons_succ]
          refine reg_take (v := ?_) hR 7 rfl (by kernel_rfl) (by kernel_rfl) (by kernel_rfl) (fun _ _ _ h => h) (by rfl) ?_ ?_
          rotate_left
          · intro W hW; go_simp; try with_reducible rfl
          try simp only [Act.put, List.getElem_toArray, List.getElem_cons_succ, List.getElem_cons_zero, List.setIfInBounds_toArray, List.set_cons_zero, List.set_cons_succ]
          refine reg_take (v := ?_) hR 8 rfl (by kernel_rfl) (by kernel_rfl) (by kernel_rfl) (fun _ _ _ h => h) (by rfl) ?_ ?_
          rotate_left
          · intro W hW; go_simp; try with_reducible rfl
          try simp only [Act.put, List.getElem_toArray, List.getElem_cons_succ, List.getElem_cons_zero, List.setIfInBounds_toArray, List.set_cons_zero, List.set_cons_succ]
          refine reg_take (v := ?_) hR 9 rfl (by kernel_rfl) (by kernel_rfl) (by kernel_rfl) (fun _ _ _ h => h) (by rfl) ?_ ?_
          rotate_left
          · intro W hW; go_simp; try with_reducible rfl
          try simp only [Act.put, List.getElem_toArray, List.getElem_cons_succ, List.getElem_cons_zero, List.setIfInBounds_toArray, List.set_cons_zero, List.set_cons_succ]
          refine reg_take (v := ?_) hR 10 rfl (by kernel_rfl) (by kernel_rfl) (by kernel_rfl) (fun _ _ _ h => h) (by rfl) ?_ ?_
          rotate_left
          · intro W hW; go_simp; try with_reducible rfl
          try simp only [Act.put, List.getElem_toArray, List.getElem_cons_succ, List.getElem_cons_zero, List.setIfInBounds_toArray, List.set_cons_zero, List.set_cons_succ]
          refine reg_take (v := ?_) hR 11 rfl (by kernel_rfl) (by kernel_rfl) (by kernel_rfl) (fun _ _ _ h => h) (by rfl) ?_ ?_
          rotate_left
          · intro W hW; go_simp; try with_reducible rfl
          try simp only [Act.put, List.getElem_toArray, List.getElem_cons_succ, List.getElem_cons_zero, List.setIfInBounds_toArray, List.set_cons_zero, List.set_cons_succ]
          refine reg_take (v := ?_) hR 12 rfl (by kernel_rfl) (by kernel_rfl) (by kernel_rfl) (fun _ _ _ h => h) (by rfl) ?_ ?_
          rotate_left
          · intro W hW; go_simp; try with_reducible rfl
          try simp only [Act.put, List.getElem_toArray, List.getElem_cons_succ, List.getElem_cons_zero, List.setIfInBounds_toArray, List.set_cons_zero, List.set_cons_succ]
          refine reg_take (v := ?_) hR 13 rfl (by kernel_rfl) (by kernel_rfl) (by kernel_rfl) (fun _ _ _ h => h) (by rfl) ?_ ?_
          rotate_left
          · intro W hW; go_simp; try with_reducible rfl
          try simp only [Act.put, List.getElem_toArray, List.getElem_cons_succ, List.getElem_cons_zero, List.setIfInBounds_toArray, List.set_cons_zero, List.set_cons_succ]
          refine reg_take (v := ?_) hR 14 rfl (by kernel_rfl) (by kernel_rfl) (by kernel_rfl) (fun _ _ _ h => h) (by rfl) ?_ ?_
          rotate_left
          · intro W hW; go_simp; try with_reducible rfl
          try simp only [Act.put, List.getElem_toArray, List.getElem_cons_succ, List.getElem_cons_zero, List.setIfInBounds_toArray, List.set_cons_zero, List.set_cons_succ]
          refine reg_take (v := num (val l % LL)) hR 15 rfl (by kernel_rfl) (by kernel_rfl) (by kernel_rfl) (fun _ _ _ h => h) (by rfl) ?_ ?_
          · intro W hW; exact exec_load_at 25 _ rfl ⟨b5, 0, none⟩ rfl (cs8 (le 32 (val l % LL))) _ (H5.out.keep hW).at_ Try.underlying25 rfl (num_info _)
          try simp only [Act.put, List.getElem_toArray, List.getElem_cons_succ, List.getElem_cons_zero, List.setIfInBounds_toArray, List.set_cons_zero, List.set_cons_succ]
          refine reg_take (v := num (val (l.take k) % LL)) hR 16 rfl (by kernel_rfl) (by kernel_rfl) (by kernel_rfl) (fun _ _ _ h => h) (by rfl) ?_ ?_
          · intro W hW; exact exec_load_at 25 _ rfl ⟨b7, 0, none⟩ rfl (cs8 (le 32 (val (l.take k) % LL))) _ (H7.out.keep hW).at_ Try.underlying25 rfl (num_info _)
          try simp only [Act.put, List.getElem_toArray, List.getElem_cons_succ, List.getElem_cons_zero, List.setIfInBounds_toArray, List.set_cons_zero, List.set_cons_succ]
          refine reg_take (v := num (val (l.drop k) * 256 ^ k % LL)) hR 17 rfl (by kernel_rfl) (by kernel_rfl) (by kernel_rfl) (fun _ _ _ h => h) (by rfl) ?_ ?_
          · intro W hW; exact exec_load_at 25 _ rfl ⟨b9, 0, none⟩ rfl (cs8 (le 32 (val (l.drop k) * 256 ^ k % LL))) _ (H9.out.keep hW).at_ Try.underlying25 rfl (num_info _)
          try simp only [Act.put, List.getElem_toArray, List.getElem_cons_succ, List.getElem_cons_zero, List.setIfInBounds_toArray, List.set_cons_zero, List.set_cons_succ]
          -- STEP 18: Op.call { callee := Callee.value (Operand.func 10), args := #[t95, t96], argTypes := #[25, 25] }
          refine reg_step hR 18 (by kernel_rfl) rfl fun K hK => ?_
          try simp only [Act.put, List.getElem_toArray, List.getElem_cons_succ, List.getElem_cons_zero, List.setIfInBounds_toArray, List.set_cons_zero, List.set_cons_succ]
          go_simp
          refine (Add_any (val (l.take k) % LL) (val (l.drop k) * 256 ^ k % LL) (rest_big _) (rest_big _) _).mono ?_; rintro e x9 ⟨rfl, hb⟩
          refine hK.out _ _ ?_ ?_
          · exact hb
          have HB := Lib.hid (bl_call HB.out hb)
          have H5 := Lib.hid (H5.out.keep hb)
          have H12 := Lib.hid (H12.out.keep hb)
          clear hb
          clear hK K
          try simp only [Act.put, List.getElem_toArray, List.getElem_cons_succ, List.getElem_cons_zero, List.setIfInBounds_toArray, List.set_cons_zero, List.set_cons_succ]
          refine reg_take (v := .bool true) hR 19 rfl (by kernel_rfl) (by kernel_rfl) (by kernel_rfl) (fun _ _ _ h => h) (by rfl) ?_ ?_
          · intro W hW; exact exec_eqT _ _ rfl (rest_big _) rfl (by show num ((val (l.take k) % LL + val (l.drop k) * 256 ^ k % LL) % LL) = num (val l % LL); rw [HSUM.out])
          try simp only [Act.put, List.getElem_toArray, List.getElem_cons_succ, List.getElem_cons_zero, List.setIfInBounds_toArray, List.set_cons_zero, List.set_cons_succ]
          refine reg_take (v := ?_) hR 20 rfl (by kernel_rfl) (by kernel_rfl) (by kernel_rfl) (fun _ _ _ h => h) (by rfl) ?_ ?_
          rotate_left
          · intro W hW; go_simp; try with_reducible rfl
          try simp only [Act.put, List.getElem_toArray, List.getElem_cons_succ, List.getElem_cons_zero, List.setIfInBounds_toArray, List.set_cons_zero, List.set_cons_succ]
          refine reg_take (v := ?_) hR 21 rfl (by kernel_rfl) (by kernel_rfl) (by kernel_rfl) (fun _ _ _ h => h) (by rfl) ?_ ?_
          rotate_left
          · intro W hW; go_simp; try with_reducible rfl
          try simp only [Act.put, List.getElem_toArray, List.getElem_cons_succ, List.getElem_cons_zero, List.setIfInBounds_toArray, List.set_cons_zero, List.set_cons_succ]
          refine reg_take (v := num (val l % LL)) hR 22 rfl (by kernel_rfl) (by kernel_rfl) (by kernel_rfl) (fun _ _ _ h => h) (by rfl) ?_ ?_
          · intro W hW; exact exec_load_at 25 _ rfl ⟨b12, 0, none⟩ rfl (cs8 (le 32 (val l % LL))) _ (H12.out.keep hW).at_ Try.underlying25 rfl (num_info _)
          try simp only [Act.put, List.getElem_toArray, List.getElem_cons_succ, List.getElem_cons_zero, List.setIfInBounds_toArray, List.set_cons_zero, List.set_cons_succ]
          refine reg_take (v := num (val l % LL)) hR 23 rfl (by kernel_rfl) (by kernel_rfl) (by kernel_rfl) (fun _ _ _ h => h) (by rfl) ?_ ?_
          · intro W hW; exact exec_load_at 25 _ rfl ⟨b5, 0, none⟩ rfl (cs8 (le 32 (val l % LL))) _ (H5.out.keep hW).at_ Try.underlying25 rfl (num_info _)
          try simp only [Act.put, List.getElem_toArray, List.getElem_cons_succ, List.getElem_cons_zero, List.setIfInBounds_toArray, List.set_cons_zero, List.set_cons_succ]
          refine reg_take (v := .bool true) hR 24 rfl (by kernel_rfl) (by kernel_rfl) (by kernel_rfl) (fun _ _ _ h => h) (by rfl) ?_ ?_
          · intro W hW; exact exec_eqT _ _ rfl (rest_big _) rfl rfl
          try simp only [Act.put, List.getElem_toArray, List.getElem_cons_succ, List.getElem_cons_zero, List.setIfInBounds_toArray, List.set_cons_zero, List.set_cons_succ]
          refine reg_take (v := ?_) hR 25 rfl (by kernel_rfl) (by kernel_rfl) (by kernel_rfl) (fun _ _ _ h => h) (by rfl) ?_ ?_
          rotate_left
          · intro W hW; go_simp; try with_reducible rfl
          try simp only [Act.put, List.getElem_toArray, List.getElem_cons_succ, List.getElem_cons_zero, List.setIfInBounds_toArray, List.set_cons_zero, List.set_cons_succ]
          refine reg_take (v := ?_) hR 26 rfl (by kernel_rfl) (by kernel_rfl) (by kernel_rfl) (fun _ _ _ h => h) (by rfl) ?_ ?_
          rotate_left
          · intro W hW; go_simp; try with_reducible rfl
          try simp only [Act.put, List.getElem_toArray, List.getElem_cons_succ, List.getElem_cons_zero, List.setIfInBounds_toArray, List.set_cons_zero, List.set_cons_succ]
          refine reg_take (v := ?_) hR 27 rfl (by kernel_rfl) (by kernel_rfl) (by kernel_rfl) (fun _ _ _ h => h) (by rfl) ?_ ?_
          rotate_left
          · intro W hW; go_simp; try with_reducible rfl
          try simp only [Act.put, List.getElem_toArray, List.getElem_cons_succ, List.getElem_cons_zero, List.setIfInBounds_toArray, List.set_cons_zero, List.set_cons_succ]
          refine reg_take (v := .bool bz) hR 28 rfl (by kernel_rfl) (by kernel_rfl) (by kernel_rfl) (fun _ _ _ h => h) (by rfl) ?_ ?_
          · intro W hW; exact exec_eq0 _ rfl rfl HZ1.out
          try simp only [Act.put, List.getElem_toArray, List.getElem_cons_succ, List.getElem_cons_zero, List.setIfInBounds_toArray, List.set_cons_zero, List.set_cons_succ]
          refine reg_take (v := num (val l % LL)) hR 29 rfl (by kernel_rfl) (by kernel_rfl) (by kernel_rfl) (fun _ _ _ h => h) (by rfl) ?_ ?_
          · intro W hW; exact exec_load_at 25 _ rfl ⟨b5, 0, none⟩ rfl (cs8 (le 32 (val l % LL))) _ (H5.out.keep hW).at_ Try.underlying25 rfl (num_info _)
          try simp only [Act.put, List.getElem_toArray, List.getElem_cons_succ, List.getElem_cons_zero, List.setIfInBounds_toArray, List.set_cons_zero, List.set_cons_succ]
          refine reg_take (v := num 0) hR 30 rfl (by kernel_rfl) (by kernel_rfl) (by kernel_rfl) (fun _ _ _ h => h) (by rfl) ?_ ?_
          · intro W hW; go_simp; rfl
          try simp only [Act.put, List.getElem_toArray, List.getElem_cons_succ, List.getElem_cons_zero, List.setIfInBounds_toArray, List.set_cons_zero, List.set_cons_succ]
          refine reg_take (v := .bool bz) hR 31 rfl (by kernel_rfl) (by kernel_rfl) (by kernel_rfl) (fun _ _ _ h => h) (by rfl) ?_ ?_
          · intro W hW; rw [exec_eqnum _ _ rfl (rest_big _) (by decide) rfl rfl, HZ2.out]
          try simp only [Act.put, List.getElem_toArray, List.getElem_cons_succ, List.getElem_cons_zero, List.setIfInBounds_toArray, List.set_cons_zero, List.set_cons_succ]
          refine reg_take (v := .bool true) hR 32 rfl (by kernel_rfl) (by kernel_rfl) (by kernel_rfl) (fun _ _ _ h => h) (by rfl) ?_ ?_
          · intro W hW; exact exec_eqbb _ _ rfl rfl rfl
          try simp only [Act.put, List.getElem_toArray, List.getElem_cons_succ, List.getElem_cons_zero, List.setIfInBounds_toArray, List.set_cons_zero, List.set_cons_succ]
          refine reg_take (v := ?_) hR 33 rfl (by kernel_rfl) (by kernel_rfl) (by kernel_rfl) (fun _ _ _ h => h) (by rfl) ?_ ?_
          rotate_left
          · intro W hW; go_simp; try with_reducible rfl
          try simp only [Act.put, List.getElem_toArray, List.getElem_cons_succ, List.getElem_cons_zero, List.setIfInBounds_toArray, List.set_cons_zero, List.set_cons_succ]
          refine reg_take (v := ?_) hR 34 rfl (by kernel_rfl) (by kernel_rfl) (by kernel_rfl) (fun _ _ _ h => h) (by rfl) ?_ ?_
          rotate_left
          · intro W hW; go_simp; try with_reducible rfl
          try simp only [Act.put, List.getElem_toArray, List.getElem_cons_succ, List.getElem_cons_zero, List.setIfInBounds_toArray, List.set_cons_zero, List.set_cons_succ]
          refine reg_done (by kernel_rfl) ?_ _
          go_wp2
          go_ret
          exact ⟨rfl, HB.out⟩
end Go.Proofs.Ytdfaliadkpdfpaa
