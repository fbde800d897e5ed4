/- The document's own records: Check, Next, Bytes, Size. -/
import Derived.Test.YtgpfognglpfmoaaGreatDoorZ31
import Derived.Test.YtgpfognglpfmoaaGreatDoorZ34
import Derived.Test.YtgpfognglpfmoaaGreatDoorZ10
set_option linter.unusedSimpArgs false
set_option linter.unusedVariables false
namespace Go.Proofs.YtgpfognglpfmoaaGreatDoor
set_option maxRecDepth 8192
set_option linter.unusedSimpArgs false
set_option linter.unusedVariables false
open Go.RowKit

set_option maxHeartbeats 400000 in
theorem QCheck_good {A : Option Addr} {n c : Nat} {k : UInt8} (w : World) (hk : k ≠ 0) (hn : n ≤ 8192) :
    Calls Tryz.prog 101 #[.agg #[.int .u8 (k.toNat : Int), .slice A n c]] w fun e w' => e = .returned (.int .i64 0) ∧ Below w.heap.size w w' := by
  have hk := k_ne hk
  go_enter Tryz.func101, Tryz.ntmps101
  go_wp2
  go_ret
  exact ⟨rfl, bl_alloc (bl0 w) _⟩
set_option maxHeartbeats 400000 in
theorem QCheck_bad {A : Option Addr} {n c : Nat} {k : UInt8} (w : World) (h : ¬ (k ≠ 0 ∧ n ≤ 8192)) :
    Calls Tryz.prog 101 #[.agg #[.int .u8 (k.toNat : Int), .slice A n c]] w fun e w' => e = .returned (.int .i64 2) ∧ Below w.heap.size w w' := by
  by_cases hk : k = 0
  · subst hk
    clear h
    rw [show ((0 : UInt8).toNat : Int) = 0 from rfl]
    go_enter Tryz.func101, Tryz.ntmps101
    go_wp2
    go_ret
    exact ⟨rfl, bl_alloc (bl0 w) _⟩
  · have hn : 8192 < n := by
      by_cases h2 : n ≤ 8192
      · exact absurd ⟨hk, h2⟩ h
      · omega
    have hk := k_ne hk
    clear h
    go_enter Tryz.func101, Tryz.ntmps101
    go_wp2
    go_ret
    exact ⟨rfl, bl_alloc (bl0 w) _⟩

set_option maxHeartbeats 1600000 in
theorem QNext_any {A : Option Addr} {n c : Nat} {l C : List UInt8} (k : UInt8) (w : World) (hC : C.length = 32) (hr : Rd w w.heap.size A n c l) (hn : n ≤ 536870912) :
    Calls Tryz.prog 102 #[.agg (cs8 C).toArray, .agg #[.int .u8 (k.toNat : Int), .slice A n c]] w fun e w' => e = .returned (.agg (cs8 (nextR C k l)).toArray) ∧ Below w.heap.size w w' := by
  have HR := Lib.hid hr
  have HC := Lib.hid hC
  have hp := recP_length k l
  have hnn := numSize_bd l.length
  have hll := hr.len
  have hT : (C ++ recP k l).length ≤ 1073741824 := by rw [List.length_append, hC, hp]; omega
  have HT := Lib.hid hT
  have HP := Lib.hid (show (cs8 (nextR C k l)).length = 32 by rw [cs8_length, nextR_length])
  have HU := Lib.hid (show nextR C k l = sumS ([C, recP k l].flatten) by simp [nextR])
  clear hr hC hT hp hll hnn
  generalize nextR C k l = S at HP HU ⊢
  go_enter Tryz.func102, Tryz.ntmps102
  go_wp2_with (refine wpList_alloc_z rfl 59 rfl z36 zero36 ?_)
  have hB0 : Below w.heap.size w (((w.alloc (.cells (cs8 C).toArray 59)).alloc (.cells #[.int .u8 (k.toNat : Int), .slice A n c] 33)).alloc (.cells z36.toArray 59)) := bl_alloc (bl_alloc (bl_alloc (bl0 w) _) _) _
  have HBX : Hid (Bk (((w.alloc (.cells (cs8 C).toArray 59)).alloc (.cells #[.int .u8 (k.toNat : Int), .slice A n c] 33)).alloc (.cells z36.toArray 59)) w.heap.size (cs8 C)) := Lib.hid (((Bk.new w (cs8 C) 59).old _).old _)
  have HRS : Hid (Bk (((w.alloc (.cells (cs8 C).toArray 59)).alloc (.cells #[.int .u8 (k.toNat : Int), .slice A n c] 33)).alloc (.cells z36.toArray 59)) (w.heap.size + 2) z36) := Lib.hid (by
    have := Bk.new ((w.alloc (.cells (cs8 C).toArray 59)).alloc (.cells #[.int .u8 (k.toNat : Int), .slice A n c] 33)) z36 59
    simpa using this)
  have HRC : Hid (Bk (((w.alloc (.cells (cs8 C).toArray 59)).alloc (.cells #[.int .u8 (k.toNat : Int), .slice A n c] 33)).alloc (.cells z36.toArray 59)) (w.heap.size + 1) [.int .u8 (k.toNat : Int), .slice A n c]) := Lib.hid (by
    have := (Bk.new (w.alloc (.cells (cs8 C).toArray 59)) [.int .u8 (k.toNat : Int), .slice A n c] 33).old (.cells z36.toArray 59)
    simpa using this)
  have hsz : (((w.alloc (.cells (cs8 C).toArray 59)).alloc (.cells #[.int .u8 (k.toNat : Int), .slice A n c] 33)).alloc (.cells z36.toArray 59)).heap.size = w.heap.size + 3 := by simp
  rw [show ((w.alloc (.cells (cs8 C).toArray 59)).alloc (.cells #[.int .u8 (k.toNat : Int), .slice A n c] 33)).heap.size = w.heap.size + 2 from by simp]
  generalize (((w.alloc (.cells (cs8 C).toArray 59)).alloc (.cells #[.int .u8 (k.toNat : Int), .slice A n c] 33)).alloc (.cells z36.toArray 59)) = w1 at hB0 HBX HRS HRC hsz ⊢
  have hR := Sb.stays (w.heap.size + 2)
  refine reg_start (Sb (w.heap.size + 2)) follows_mixed ?_
  have hB1 := Lib.hid hB0.drew
  have hX1 := Lib.hid HBX.out.drew
  have hS1 := Lib.hid HRS.out.drew
  have hC1 := Lib.hid HRC.out.drew
  have hz1 : w1.drew.heap.size = w.heap.size + 3 := hsz
  clear HBX HRS HRC hB0 hsz
  generalize w1.drew = w2 at hB1 hX1 hS1 hC1 hz1 ⊢
  refine reg_take (v := .slice (some ⟨w.heap.size, 0, none⟩) 32 32) hR 0 rfl (by kernel_rfl) (by kernel_rfl) (by kernel_rfl) (fun _ _ _ h => h) (by rfl) ?_ ?_
  · intro W hW; exact exec_slice_all _ rfl rfl Tryz.underlying59 (by decide)
  try simp only [Act.put, List.getElem_toArray, List.getElem_cons_succ, List.getElem_cons_zero, List.setIfInBounds_toArray, List.set_cons_zero, List.set_cons_succ]
  refine reg_take (v := .pointer (some ⟨w.heap.size + 1, 0, none⟩)) hR 1 rfl (by kernel_rfl) (by kernel_rfl) (by kernel_rfl) (fun _ _ _ h => h) (by rfl) ?_ ?_
  · intro W hW; go_simp; try with_reducible rfl
  try simp only [Act.put, List.getElem_toArray, List.getElem_cons_succ, List.getElem_cons_zero, List.setIfInBounds_toArray, List.set_cons_zero, List.set_cons_succ]
  refine reg_take (v := .int .u8 (k.toNat : Int)) hR 2 rfl (by kernel_rfl) (by kernel_rfl) (by kernel_rfl) (fun _ _ _ h => h) (by rfl) ?_ ?_
  · intro W hW; exact exec_load_cell 5 _ rfl Tryz.isAgg5 rfl ((hC1.out.below hW (by omega)).cell (k := 0) rfl)
  try simp only [Act.put, List.getElem_toArray, List.getElem_cons_succ, List.getElem_cons_zero, List.setIfInBounds_toArray, List.set_cons_zero, List.set_cons_succ]
  refine reg_take (v := .pointer (some ⟨w.heap.size + 1, 1, none⟩)) hR 4 rfl (by kernel_rfl) (by kernel_rfl) (by kernel_rfl) (fun _ _ _ h => h) (by rfl) ?_ ?_
  · intro W hW; go_simp; try with_reducible rfl
  try simp only [Act.put, List.getElem_toArray, List.getElem_cons_succ, List.getElem_cons_zero, List.setIfInBounds_toArray, List.set_cons_zero, List.set_cons_succ]
  refine reg_take (v := .slice A n c) hR 5 rfl (by kernel_rfl) (by kernel_rfl) (by kernel_rfl) (fun _ _ _ h => h) (by rfl) ?_ ?_
  · intro W hW; exact exec_load_cell 31 _ rfl Tryz.isAgg31 rfl ((hC1.out.below hW (by omega)).cell (k := 1) rfl)
  try simp only [Act.put, List.getElem_toArray, List.getElem_cons_succ, List.getElem_cons_zero, List.setIfInBounds_toArray, List.set_cons_zero, List.set_cons_succ]
  refine reg_step hR 3 (by kernel_rfl) rfl fun K hK => ?_
  try simp only [Act.put, List.getElem_toArray, List.getElem_cons_succ, List.getElem_cons_zero, List.setIfInBounds_toArray, List.set_cons_zero, List.set_cons_succ]
  rw [if_pos (by rfl)]
  go_simp
  refine hK.out _ _ ((Below.refl _ _).alloc (by omega) _) ?_
  have hr2 := Lib.hid (Rd.one w2 k (w.heap.size + 3) hz1.symm)
  have hB2 := Lib.hid (bl_alloc hB1.out (.cells #[.int .u8 (k.toNat : Int)] 5))
  have hX2 := Lib.hid (hX1.out.old (.cells #[.int .u8 (k.toNat : Int)] 5))
  have hS2 := Lib.hid (hS1.out.old (.cells #[.int .u8 (k.toNat : Int)] 5))
  clear hB1 hX1 hS1 hC1
  have hz2 : (w2.alloc (.cells #[.int .u8 (k.toNat : Int)] 5)).heap.size = w2.heap.size + 1 := by simp
  rw [hz1] at hz2
  generalize w2.alloc (.cells #[.int .u8 (k.toNat : Int)] 5) = w22 at hr2 hB2 hX2 hS2 hz2 ⊢
  clear hK K
  try simp only [Act.put, List.getElem_toArray, List.getElem_cons_succ, List.getElem_cons_zero, List.setIfInBounds_toArray, List.set_cons_zero, List.set_cons_succ]
  refine reg_step hR 6 (by kernel_rfl) rfl fun K hK => ?_
  try simp only [Act.put, List.getElem_toArray, List.getElem_cons_succ, List.getElem_cons_zero, List.setIfInBounds_toArray, List.set_cons_zero, List.set_cons_succ]
  rw [if_pos (by rfl)]
  go_simp
  refine (QBlock_any _ hr2.out (by omega) (HR.out.top hB2.out) (by omega)).mono ?_; rintro e w3 ⟨v3, rfl, ho3, hb3⟩
  refine hK.out _ _ (hb3.mono (by omega)) ?_
  have hB3 := Lib.hid (bl_call hB2.out hb3)
  have hX3 := Lib.hid (hX2.out.keep hb3)
  have hS3 := Lib.hid (hS2.out.keep hb3)
  have hz3 := hb3.size
  rw [show [k] ++ (numB l.length ++ l) = recP k l from rfl] at ho3
  obtain ⟨A3, c3, rfl, hl3⟩ := ho3.sl rfl
  have hT3 := Lib.hid (Rl.two (hX3.out.sl HC.out) hl3 31)
  clear hb3 ho3 hl3 hX2 hS2 hB2 hr2
  clear hK K
  try simp only [Act.put, List.getElem_toArray, List.getElem_cons_succ, List.getElem_cons_zero, List.setIfInBounds_toArray, List.set_cons_zero, List.set_cons_succ]
  refine reg_step hR 7 (by kernel_rfl) rfl fun K hK => ?_
  try simp only [Act.put, List.getElem_toArray, List.getElem_cons_succ, List.getElem_cons_zero, List.setIfInBounds_toArray, List.set_cons_zero, List.set_cons_succ]
  rw [if_pos (by rfl)]
  go_simp
  have hB4 := Lib.hid (bl_alloc hB3.out (.cells #[.slice (some ⟨w.heap.size, 0, none⟩) 32 32, .slice A3 (recP k l).length c3] 31))
  have hS4 := Lib.hid (hS3.out.old (.cells #[.slice (some ⟨w.heap.size, 0, none⟩) 32 32, .slice A3 (recP k l).length c3] 31))
  refine hK.out _ _ ((Below.refl _ _).alloc (by omega) _) ?_
  generalize w3.alloc (.cells #[.slice (some ⟨w.heap.size, 0, none⟩) 32 32, .slice A3 (recP k l).length c3] 31) = w4 at hT3 hB4 hS4 ⊢
  have hz4 := hS4.out.lt
  clear hK K
  try simp only [Act.put, List.getElem_toArray, List.getElem_cons_succ, List.getElem_cons_zero, List.setIfInBounds_toArray, List.set_cons_zero, List.set_cons_succ]
  refine reg_step hR 8 (by kernel_rfl) rfl fun K hK => ?_
  try simp only [Act.put, List.getElem_toArray, List.getElem_cons_succ, List.getElem_cons_zero, List.setIfInBounds_toArray, List.set_cons_zero, List.set_cons_succ]
  rw [if_pos (by rfl)]
  go_simp
  refine (QSum_any _ hT3.out (by omega) (by have := HT.out; simpa using this)).mono ?_; rintro e w5 ⟨rfl, hb5⟩
  have hB5 := Lib.hid (bl_call hB4.out hb5)
  have hS5 := Lib.hid (hS4.out.keep hb5)
  refine hK.out _ _ (hb5.mono (by omega)) ?_
  rw [← HU.out]
  clear hb5
  clear hK K
  try simp only [Act.put, List.getElem_toArray, List.getElem_cons_succ, List.getElem_cons_zero, List.setIfInBounds_toArray, List.set_cons_zero, List.set_cons_succ]
  refine reg_step hR 9 (by kernel_rfl) rfl fun K hK => ?_
  try simp only [Act.put, List.getElem_toArray, List.getElem_cons_succ, List.getElem_cons_zero, List.setIfInBounds_toArray, List.set_cons_zero, List.set_cons_succ]
  rw [if_pos (by rfl)]
  refine wp_store_bk 59 _ _ rfl (w.heap.size + 2) rfl (cs8 S) z36 rfl hS5.out (by rw [HP.out]; exact info36) (by rw [HP.out]; exact len_z36) (cs8_all _) ?_
  refine hK.out _ _ (below_setRow (Below.refl _ _) (by omega) _) ?_
  clear hK K
  try simp only [Act.put, List.getElem_toArray, List.getElem_cons_succ, List.getElem_cons_zero, List.setIfInBounds_toArray, List.set_cons_zero, List.set_cons_succ]
  refine reg_done (by kernel_rfl) ?_ _
  go_wp2
  exact ret_bk rfl (w.heap.size + 2) _ _ rfl rfl (hS5.out.setRow _) Tryz.underlying59 rfl (by rw [HP.out]; exact info36) ⟨rfl, bl_setRow hB5.out (by omega) _⟩

set_option maxHeartbeats 1600000 in
theorem QBytes_bad {A : Option Addr} {n c : Nat} {k : UInt8} {C : List UInt8} (w : World) (h : ¬ (k ≠ 0 ∧ n ≤ 8192)) :
    Calls Tryz.prog 67 #[.agg (cs8 C).toArray, .agg #[.int .u8 (k.toNat : Int), .slice A n c]] w (NoBytes w) := by
  have H := Lib.hid h
  clear h
  go_enter Tryz.func67, Tryz.ntmps67
  go_wp2_with (refine wpList_alloc_z rfl 59 rfl z36 zero36 ?_)
  refine (QCheck_bad _ H.out).mono ?_; rintro e w1 ⟨rfl, hb⟩
  have hB := Lib.hid (bl_call (bl_alloc (bl_alloc (bl_alloc (bl0 w) (.cells (cs8 C).toArray 59)) (.cells #[.int .u8 (k.toNat : Int), .slice A n c] 33)) (.cells z36.toArray 59)) hb)
  have hZ : Hid (Bk w1 (w.heap.size + 1 + 1) z36) := Lib.hid (by
    have := (Bk.new ((w.alloc (.cells (cs8 C).toArray 59)).alloc (.cells #[.int .u8 (k.toNat : Int), .slice A n c] 33)) z36 59).keep hb
    simpa using this)
  clear hb
  go_wp2_with (first | (refine wpList_build rfl 59 _ rfl z36.toArray built23 ?_) | (refine wpList_store_bk rfl 59 _ _ rfl (w.heap.size + 1 + 1) rfl z36 z36 rfl hZ.out (by kernel_rfl) rfl all_z36 ?_))
  exact ret_tct rfl rfl rfl (load_bk (hZ.out.setRow z36) Tryz.underlying59 rfl (by kernel_rfl)) ⟨rfl, bl_setRow hB.out (by omega) _⟩

set_option maxHeartbeats 1600000 in
theorem QBytes_good {A : Option Addr} {n c : Nat} {k : UInt8} {C l : List UInt8} (w : World) (hC : C.length = 32) (hr : Rd w w.heap.size A n c l) (hk : k ≠ 0) (hn : n ≤ 8192) :
    Calls Tryz.prog 67 #[.agg (cs8 C).toArray, .agg #[.int .u8 (k.toNat : Int), .slice A n c]] w (IsB w (nextR C k l) (recB C k l)) := by
  have HR := Lib.hid hr
  have HC := Lib.hid hC
  have HK := Lib.hid hk
  have HC8 := Lib.hid (show (cs8 C).length = 32 by rw [cs8_length, hC])
  have hp := recP_length k l
  have hnn := numSize_bd l.length
  have hll := hr.len
  have hpl : (recP k l).length ≤ 8300 := by omega
  have HPL := Lib.hid hpl
  have HP := Lib.hid (show (cs8 (nextR C k l)).length = 32 by rw [cs8_length, nextR_length])
  have HL := Lib.hid (nextR_length C k l)
  have HNX := Lib.hid (fun (W : World) (h : Rd W W.heap.size A n c l) => QNext_any k W hC h (by omega))
  have HU := Lib.hid (show recB C k l = recP k l ++ (nextR C k l).take 8 from rfl)
  clear hr hC hk hp hll hnn hpl
  rw [HU.out]
  clear HU
  generalize nextR C k l = S at HP HL HNX ⊢
  go_enter Tryz.func67, Tryz.ntmps67
  go_wp2_with (refine wpList_alloc_z rfl 59 rfl z36 zero36 ?_)
  refine (QCheck_good _ HK.out hn).mono ?_; rintro e w1 ⟨rfl, hb⟩
  have hB1 := Lib.hid (bl_call (bl_alloc (bl_alloc (bl_alloc (bl0 w) (.cells (cs8 C).toArray 59)) (.cells #[.int .u8 (k.toNat : Int), .slice A n c] 33)) (.cells z36.toArray 59)) hb)
  have hZ1 : Hid (Bk w1 (w.heap.size + 1 + 1) z36) := Lib.hid (by
    have := (Bk.new ((w.alloc (.cells (cs8 C).toArray 59)).alloc (.cells #[.int .u8 (k.toNat : Int), .slice A n c] 33)) z36 59).keep hb
    simpa using this)
  have hR1 : Hid (Bk w1 (w.heap.size + 1) [.int .u8 (k.toNat : Int), .slice A n c]) := Lib.hid (by
    have := ((Bk.new (w.alloc (.cells (cs8 C).toArray 59)) [.int .u8 (k.toNat : Int), .slice A n c] 33).old (.cells z36.toArray 59)).keep hb
    simpa using this)
  have hC1 : Hid (Bk w1 w.heap.size (cs8 C)) := Lib.hid ((((Bk.new w (cs8 C) 59).old _).old _).keep hb)
  clear hb
  have hc0 := hR1.out.cell (k := 0) rfl
  have hc1 := hR1.out.cell (k := 1) rfl
  go_wp2_with (first | (refine wpList_load_at rfl 59 _ rfl ⟨w.heap.size, 0, none⟩ rfl (cs8 C) _ hC1.out.at_ Tryz.underlying59 rfl (by rw [HC8.out]; exact info36) ?_) | fail)
  refine (HNX.out w1 (HR.out.top hB1.out)).mono ?_; rintro e w2 ⟨rfl, hb⟩
  have hB2 := Lib.hid (bl_call hB1.out hb)
  have hZ2 := Lib.hid (hZ1.out.keep hb)
  have hR2 := Lib.hid (hR1.out.keep hb)
  clear hb hZ1 hR1 hC1 hB1 hc0 hc1
  have hN3 := Lib.hid (Bk.new w2 z36 59)
  have hz2 := hZ2.out.lt
  go_wp2_with (first | (refine wpList_alloc_z rfl 59 rfl z36 zero36 ?_) | (refine wpList_store_bk rfl 59 _ _ rfl w2.heap.size rfl (cs8 S) z36 rfl hN3.out (by rw [HP.out]; exact info36) (by rw [HP.out]; exact len_z36) (cs8_all _) ?_))
  have hN4 := Lib.hid (hN3.out.setRow (cs8 S))
  have hB4 := Lib.hid (bl_setRow (bl_alloc hB2.out (.cells z36.toArray 59)) hB2.out.size (cs8 S).toArray)
  have hZ4 := Lib.hid ((hZ2.out.old (.cells z36.toArray 59)).other (show w.heap.size + 1 + 1 ≠ w2.heap.size by omega) (cs8 S).toArray)
  have hR4 := Lib.hid ((hR2.out.old (.cells z36.toArray 59)).other (show w.heap.size + 1 ≠ w2.heap.size by omega) (cs8 S).toArray)
  have hz4 : w2.heap.size < ((w2.alloc (.cells z36.toArray 59)).setRow w2.heap.size (cs8 S).toArray).heap.size := hN4.out.lt
  generalize (w2.alloc (.cells z36.toArray 59)).setRow w2.heap.size (cs8 S).toArray = w4 at hN4 hB4 hZ4 hR4 hz4 ⊢
  generalize w2.heap.size = G at hN4 hz2 hz4 ⊢
  clear hN3 hZ2 hR2 hB2
  try simp only [Act.put, List.getElem_toArray, List.getElem_cons_succ, List.getElem_cons_zero, List.setIfInBounds_toArray, List.set_cons_zero, List.set_cons_succ]
  have hR := Kp.stays (gt (w.heap.size + 1 + 1) w4.heap.size)
  refine reg_start (Kp (gt (w.heap.size + 1 + 1) w4.heap.size)) follows_mixed ?_
  have hB5 := Lib.hid hB4.out.drew
  have hN5 := Lib.hid hN4.out.drew
  have hZ5 := Lib.hid hZ4.out.drew
  have hR5 := Lib.hid hR4.out.drew
  have hz5 : w4.drew.heap.size = w4.heap.size := rfl
  clear hB4 hN4 hZ4 hR4
  generalize w4.drew = w5 at hB5 hN5 hZ5 hR5 hz5 ⊢
  generalize w4.heap.size = T at hz4 hz5 hR ⊢
  refine reg_take (v := .pointer (some ⟨w.heap.size + 1, 0, none⟩)) hR 0 rfl (by kernel_rfl) (by kernel_rfl) (by kernel_rfl) (fun _ _ _ h => h) (by rfl) ?_ ?_
  · intro W hW; go_simp; try with_reducible rfl
  try simp only [Act.put, List.getElem_toArray, List.getElem_cons_succ, List.getElem_cons_zero, List.setIfInBounds_toArray, List.set_cons_zero, List.set_cons_succ]
  refine reg_take (v := .int .u8 (k.toNat : Int)) hR 1 rfl (by kernel_rfl) (by kernel_rfl) (by kernel_rfl) (fun _ _ _ h => h) (by rfl) ?_ ?_
  · intro W hW; exact exec_load_cell 5 _ rfl Tryz.isAgg5 rfl ((hR5.out.kp hW (by unfold gt; omega)).cell (k := 0) rfl)
  try simp only [Act.put, List.getElem_toArray, List.getElem_cons_succ, List.getElem_cons_zero, List.setIfInBounds_toArray, List.set_cons_zero, List.set_cons_succ]
  refine reg_take (v := .pointer (some ⟨w.heap.size + 1, 1, none⟩)) hR 3 rfl (by kernel_rfl) (by kernel_rfl) (by kernel_rfl) (fun _ _ _ h => h) (by rfl) ?_ ?_
  · intro W hW; go_simp; try with_reducible rfl
  try simp only [Act.put, List.getElem_toArray, List.getElem_cons_succ, List.getElem_cons_zero, List.setIfInBounds_toArray, List.set_cons_zero, List.set_cons_succ]
  refine reg_take (v := .slice A n c) hR 4 rfl (by kernel_rfl) (by kernel_rfl) (by kernel_rfl) (fun _ _ _ h => h) (by rfl) ?_ ?_
  · intro W hW; exact exec_load_cell 31 _ rfl Tryz.isAgg31 rfl ((hR5.out.kp hW (by unfold gt; omega)).cell (k := 1) rfl)
  try simp only [Act.put, List.getElem_toArray, List.getElem_cons_succ, List.getElem_cons_zero, List.setIfInBounds_toArray, List.set_cons_zero, List.set_cons_succ]
  refine reg_take (v := .slice (some ⟨G, 0, none⟩) 8 32) hR 6 rfl (by kernel_rfl) (by kernel_rfl) (by kernel_rfl) (fun _ _ _ h => h) (by rfl) ?_ ?_
  · intro W hW; exact exec_slice_hi _ _ rfl rfl rfl Tryz.underlying59 (by decide) (by decide)
  try simp only [Act.put, List.getElem_toArray, List.getElem_cons_succ, List.getElem_cons_zero, List.setIfInBounds_toArray, List.set_cons_zero, List.set_cons_succ]
  refine reg_take (v := .agg (cs8 S).toArray) hR 8 rfl (by kernel_rfl) (by kernel_rfl) (by kernel_rfl) (fun _ _ _ h => h) (by rfl) ?_ ?_
  · intro W hW; exact exec_load_at 59 _ rfl ⟨G, 0, none⟩ rfl (cs8 S) _ (hN5.out.kp hW (by unfold gt; omega)).at_ Tryz.underlying59 rfl (by rw [HP.out]; exact info36)
  try simp only [Act.put, List.getElem_toArray, List.getElem_cons_succ, List.getElem_cons_zero, List.setIfInBounds_toArray, List.set_cons_zero, List.set_cons_succ]
  refine reg_step hR 2 (by kernel_rfl) rfl fun K hK => ?_
  try simp only [Act.put, List.getElem_toArray, List.getElem_cons_succ, List.getElem_cons_zero, List.setIfInBounds_toArray, List.set_cons_zero, List.set_cons_succ]
  rw [if_pos (by rfl)]
  go_simp
  refine hK.out _ _ (Kp.of_old (bl_alloc (bl0 w5) (.cells #[.int .u8 (k.toNat : Int)] 5))) ?_
  have hr5 := Lib.hid (Rd.one w5 k T hz5.symm)
  have hs5 : (w5.alloc (.cells #[.int .u8 (k.toNat : Int)] 5)).heap.size = w5.heap.size + 1 := by simp
  have hB55 := Lib.hid (bl_alloc hB5.out (.cells #[.int .u8 (k.toNat : Int)] 5))
  have hN55 := Lib.hid (hN5.out.old (.cells #[.int .u8 (k.toNat : Int)] 5))
  have hZ55 := Lib.hid (hZ5.out.old (.cells #[.int .u8 (k.toNat : Int)] 5))
  clear hB5 hN5 hZ5 hR5
  rw [hz5] at hs5
  generalize w5.alloc (.cells #[.int .u8 (k.toNat : Int)] 5) = w55 at hr5 hs5 hB55 hN55 hZ55 ⊢
  clear hK K
  try simp only [Act.put, List.getElem_toArray, List.getElem_cons_succ, List.getElem_cons_zero, List.setIfInBounds_toArray, List.set_cons_zero, List.set_cons_succ]
  refine reg_step hR 5 (by kernel_rfl) rfl fun K hK => ?_
  try simp only [Act.put, List.getElem_toArray, List.getElem_cons_succ, List.getElem_cons_zero, List.setIfInBounds_toArray, List.set_cons_zero, List.set_cons_succ]
  rw [if_pos (by rfl)]
  go_simp
  refine (QBlock_any _ hr5.out (by omega) (HR.out.top hB55.out) (by omega)).mono ?_; rintro e w6 ⟨v6, rfl, ho6, hb6⟩
  refine hK.out _ _ (Kp.of_old hb6) ?_
  rw [show [k] ++ (numB l.length ++ l) = recP k l from rfl] at ho6
  have hB6 := Lib.hid (bl_call hB55.out hb6)
  have hN6 := Lib.hid (hN55.out.keep hb6)
  have hZ6 := Lib.hid (hZ55.out.keep hb6)
  have hO6 := Lib.hid ho6
  have hz6 := hb6.size
  clear hb6 ho6 hB55 hN55 hZ55 hr5
  clear hK K
  try simp only [Act.put, List.getElem_toArray, List.getElem_cons_succ, List.getElem_cons_zero, List.setIfInBounds_toArray, List.set_cons_zero, List.set_cons_succ]
  refine reg_step hR 7 (by kernel_rfl) rfl fun K hK => ?_
  try simp only [Act.put, List.getElem_toArray, List.getElem_cons_succ, List.getElem_cons_zero, List.setIfInBounds_toArray, List.set_cons_zero, List.set_cons_succ]
  rw [if_pos (by rfl)]
  refine wp_app _ _ rfl rfl hO6.out rfl ((hN6.out.sl HL.out).rd.take_ (k := 8) (by decide)) (by have := HPL.out; omega) (by omega) ?_
  intro v7 w7 ho7 hg7
  have hk7 : Kp (gt (w.heap.size + 1 + 1) T) w6 w7 := kp_grown hg7 (fun k hk => by have := (World.ownsRow.lt hO6.out k hk).1; unfold gt; omega)
  refine hK.out _ _ hk7 ?_
  have hO7 := Lib.hid ho7
  have hN7 := Lib.hid (hN6.out.grown hg7 (fun e => by have := (World.ownsRow.lt hO6.out _ e).1; omega))
  have hZ7 := Lib.hid (hZ6.out.grown hg7 (fun e => by have := (World.ownsRow.lt hO6.out _ e).1; omega))
  have hB7 := Lib.hid (hB6.out.grown hg7 hB6.out.size (fun k hk => by have := (World.ownsRow.lt hO6.out k hk).1; have := hB6.out.size; omega))
  have hne : v7.ownBlock ≠ some (w.heap.size + 1 + 1) := fun e => by have := (World.ownsRow.lt hO7.out _ e).1; omega
  clear hg7 ho7 hk7 hO6 hB6 hN6 hZ6
  clear hK K
  try simp only [Act.put, List.getElem_toArray, List.getElem_cons_succ, List.getElem_cons_zero, List.setIfInBounds_toArray, List.set_cons_zero, List.set_cons_succ]
  refine reg_take (v := v7) hR 9 rfl (by kernel_rfl) (by kernel_rfl) (by kernel_rfl) (fun _ _ _ h => h) (by rfl) ?_ ?_
  · intro W hW; go_simp; try with_reducible rfl
  try simp only [Act.put, List.getElem_toArray, List.getElem_cons_succ, List.getElem_cons_zero, List.setIfInBounds_toArray, List.set_cons_zero, List.set_cons_succ]
  refine reg_step hR 10 (by kernel_rfl) rfl fun K hK => ?_
  try simp only [Act.put, List.getElem_toArray, List.getElem_cons_succ, List.getElem_cons_zero, List.setIfInBounds_toArray, List.set_cons_zero, List.set_cons_succ]
  rw [if_pos (by rfl)]
  refine wp_store_bk 59 _ _ rfl (w.heap.size + 1 + 1) rfl (cs8 S) z36 rfl hZ7.out (by rw [HP.out]; exact info36) (by rw [HP.out]; exact len_z36) (cs8_all _) ?_
  refine hK.out _ _ (kp_setRow _ _ _ (by unfold gt; omega)) ?_
  clear hK K
  try simp only [Act.put, List.getElem_toArray, List.getElem_cons_succ, List.getElem_cons_zero, List.setIfInBounds_toArray, List.set_cons_zero, List.set_cons_succ]
  refine reg_take (v := .int .i64 0) hR 11 rfl (by kernel_rfl) (by kernel_rfl) (by kernel_rfl) (fun _ _ _ h => h) (by rfl) ?_ ?_
  · intro W hW; go_simp; try with_reducible rfl
  try simp only [Act.put, List.getElem_toArray, List.getElem_cons_succ, List.getElem_cons_zero, List.setIfInBounds_toArray, List.set_cons_zero, List.set_cons_succ]
  refine reg_done (by kernel_rfl) ?_ _
  have hZ8 := Lib.hid (hZ7.out.setRow (cs8 S))
  have hO8 := Lib.hid (hO7.out.setRow hne (cs8 S).toArray)
  have hB8 := Lib.hid (bl_setRow hB7.out (show w.heap.size ≤ w.heap.size + 1 + 1 by omega) (cs8 S).toArray)
  go_wp2
  exact ret_tct rfl rfl rfl (load_bk hZ8.out Tryz.underlying59 rfl (by rw [HP.out]; exact info36)) ⟨v7, rfl, hO8.out.lower (by omega), hB8.out⟩

set_option maxHeartbeats 800000 in
theorem QSize_any {A : Option Addr} {n c : Nat} {k : UInt8} {l : List UInt8} (w : World) (hr : Rd w w.heap.size A n c l) :
    Calls Tryz.prog 39 #[.agg #[.int .u8 (k.toNat : Int), .slice A n c]] w fun e w' => e = .returned (.int .i64 ((if k ≠ 0 ∧ n ≤ 8192 then 1 + (numSize n + n) + 8 else 0 : Nat) : Int)) ∧ Below w.heap.size w w' := by
  have HB0 := Lib.hid (bl_alloc (bl0 w) (.cells #[.int .u8 (k.toNat : Int), .slice A n c] 33))
  have HX := Lib.hid (Bk.new w [.int .u8 (k.toNat : Int), .slice A n c] 33)
  have HR := Lib.hid (hr.top HB0.out)
  have c0 := HX.out.cell (k := 0) rfl
  have c1 := HX.out.cell (k := 1) rfl
  have hl := hr.len
  have hz : z36 = cs8 (List.replicate 32 0) := rfl
  have H32 := Lib.hid (show (List.replicate 32 (0 : UInt8)).length = 32 by simp)
  by_cases hv : k ≠ 0 ∧ n ≤ 8192
  · rw [if_pos hv]
    have HBY := Lib.hid (QBytes_good (C := List.replicate 32 0) _ H32.out HR.out hv.1 hv.2)
    rw [← hz] at HBY
    have hln : (recB (List.replicate 32 0) k l).length = 1 + (numSize n + n) + 8 := by rw [recB_length, hl]
    have hnl : (nextR (List.replicate 32 0) k l).length = 32 := nextR_length _ _ _
    have HNL := Lib.hid (show (cs8 (nextR (List.replicate 32 0) k l)).length = 32 by rw [cs8_length, hnl])
    have hnn := numSize_bd n
    have h8 : n ≤ 8192 := hv.2
    generalize nextR (List.replicate 32 0) k l = S at HBY HNL
    generalize recB (List.replicate 32 0) k l = R at HBY hln
    have HLN := Lib.hid hln
    clear hr hl hz hnl hln hv
    go_enter Tryz.func39, Tryz.ntmps39
    go_wp2_with (refine wpList_build rfl 59 _ rfl z36.toArray built23 ?_)
    refine HBY.out.mono ?_
    rintro e w2 ⟨v, rfl, ho, hb⟩
    obtain ⟨A2, c2, rfl, hr2⟩ := ho.rdN HLN.out
    have HB2 := Lib.hid (bl_call HB0.out hb)
    have HZ := Lib.hid (Bk.new w2 z36 59)
    clear ho hb hr2
    go_wp2_with (first | (refine wpList_alloc_z rfl 59 rfl z36 zero36 ?_) | (refine wpList_store_bk rfl 59 _ _ rfl w2.heap.size rfl (cs8 S) z36 rfl HZ.out (by rw [HNL.out]; exact info36) (by rw [HNL.out]; exact len_z36) (cs8_all _) ?_))
    go_ret
    exact ⟨rfl, bl_setRow (bl_alloc HB2.out _) HB2.out.size _⟩
  · rw [if_neg hv]
    have HBY := Lib.hid (QBytes_bad (A := A) (n := n) (c := c) (k := k) (C := List.replicate 32 0) (w.alloc (.cells #[.int .u8 (k.toNat : Int), .slice A n c] 33)) hv)
    rw [← hz] at HBY
    clear hr hl hz hv
    go_enter Tryz.func39, Tryz.ntmps39
    go_wp2_with (refine wpList_build rfl 59 _ rfl z36.toArray built23 ?_)
    refine HBY.out.mono ?_
    rintro e w2 ⟨rfl, hb⟩
    have HB2 := Lib.hid (bl_call HB0.out hb)
    have HZ := Lib.hid (Bk.new w2 z36 59)
    clear hb
    go_wp2_with (first | (refine wpList_alloc_z rfl 59 rfl z36 zero36 ?_) | (refine wpList_store_bk rfl 59 _ _ rfl w2.heap.size rfl z36 z36 rfl HZ.out (by kernel_rfl) rfl all_z36 ?_))
    go_ret
    exact ⟨rfl, bl_setRow (bl_alloc HB2.out _) HB2.out.size _⟩
end Go.Proofs.YtgpfognglpfmoaaGreatDoor
