/- record: Next. -/
import Derived.Test.YtjaoaikcmbfnmaaRa
import Derived.Test.YtjaoaikcmbfnmaaPf
namespace Go.Proofs.Ytjaoaikcmbfnmaa
set_option maxRecDepth 8192
set_option linter.unusedSimpArgs false
set_option linter.unusedVariables false
open Go.RowKit

theorem run_slice_all {T : TypeId} {n : Nat} (hu : Try.prog.underlying T = some (.array n 5)) {g : Nat} (hn : 0 < n) (w : World) :
    (Instr.sliceAt T (.pointer (some ⟨g, 0, none⟩)) none none none).run Try.prog w = .ok (.slice (some ⟨g, 0, none⟩) n n) w := by
  have h1 : ¬ n = 0 := by omega
  simp [Instr.sliceAt, Instr.sureAddr, run_underlying hu, Instr.sliceBounds, run_sliceBound, h1, Try.sizeOf5, add_zero_mid, go_sem]
theorem Bk.sl {w : World} {g n : Nat} {l : List UInt8} (h : Bk w g (cs8 l)) (hn : l.length = n) : Sl w w.heap.size (some ⟨g, 0, none⟩) n n l := by
  have hl := h.lt
  obtain ⟨t, h⟩ := h
  have := Rd.of_block (l := l) (top := w.heap.size) h hl
  rw [hn] at this
  exact ⟨this, fun a ha => by injection ha with ha; subst ha; exact hl⟩
theorem Ow.sl {w : World} {base n : Nat} {l : List UInt8} {v : Value} (h : Ow w base v l) (hn : l.length = n) : ∃ A c, v = .slice A n c ∧ Sl w w.heap.size A n c l := by
  obtain ⟨A, c, rfl, hr⟩ := h.rdN hn
  exact ⟨A, c, rfl, hr, fun a ha => (World.ownsRow.lt h a.block (by rw [ha]; rfl)).2⟩

theorem exec_slice_all {o : Oper} {a : Act} {w : World} {T : TypeId} {n g : Nat} (x : Operand) (ho : o.op = .slice T x none none none) (hx : a.eval x = .pointer (some ⟨g, 0, none⟩)) (hu : Try.prog.underlying T = some (.array n 5)) (hn : 0 < n) :
    (execOp a.eval o).run Try.prog w = .ok (.value (.slice (some ⟨g, 0, none⟩) n n)) w := by
  unfold execOp
  simp only [ho, hx, Option.map_none, run_slice_all hu hn, Sem.run_bind, Result.andThen_ok, Sem.run_pure]

set_option maxHeartbeats 1600000 in
theorem Next_any {A : Option Addr} {n c : Nat} {l C : List UInt8} (k : UInt8) (w : World) (hC : C.length = 32) (hr : Rd w w.heap.size A n c l) (hn : n ≤ 536870912) :
    Calls Try.prog 17 #[.agg (cs8 C).toArray, .agg #[.int .u8 (k.toNat : Int), .slice A n c]] w fun e w' => e = .returned (.agg (cs8 (nextR C k l)).toArray) ∧ Below w.heap.size w w' := by
  have HR := Lib.hid hr
  have HC := Lib.hid hC
  have hp := recP_length k l
  have hnn := numSize_bd l.length
  have hll := hr.len
  have hT : (C ++ recP k l).length ≤ 1073741824 := by rw [List.length_append, hC, hp]; omega
  have HT := Lib.hid hT
  have HP := Lib.hid (show (cs8 (nextR C k l)).length = 32 by rw [cs8_length, nextR_length])
  have HU := Lib.hid (show nextR C k l = sumS ([C, recP k l].flatten) by simp [nextR])
  clear hr hC hT hp hll hnn
  generalize nextR C k l = S at HP HU ⊢
  go_enter Try.func17, Try.ntmps17
  go_wp2_with (refine wpList_alloc_z rfl 23 rfl z36 zero36 ?_)
  have hB0 : Below w.heap.size w (((w.alloc (.cells (cs8 C).toArray 23)).alloc (.cells #[.int .u8 (k.toNat : Int), .slice A n c] 31)).alloc (.cells z36.toArray 23)) := bl_alloc (bl_alloc (bl_alloc (bl0 w) _) _) _
  have HBX : Hid (Bk (((w.alloc (.cells (cs8 C).toArray 23)).alloc (.cells #[.int .u8 (k.toNat : Int), .slice A n c] 31)).alloc (.cells z36.toArray 23)) w.heap.size (cs8 C)) := Lib.hid (((Bk.new w (cs8 C) 23).old _).old _)
  have HRS : Hid (Bk (((w.alloc (.cells (cs8 C).toArray 23)).alloc (.cells #[.int .u8 (k.toNat : Int), .slice A n c] 31)).alloc (.cells z36.toArray 23)) (w.heap.size + 2) z36) := Lib.hid (by
    have := Bk.new ((w.alloc (.cells (cs8 C).toArray 23)).alloc (.cells #[.int .u8 (k.toNat : Int), .slice A n c] 31)) z36 23
    simpa using this)
  have HRC : Hid (Bk (((w.alloc (.cells (cs8 C).toArray 23)).alloc (.cells #[.int .u8 (k.toNat : Int), .slice A n c] 31)).alloc (.cells z36.toArray 23)) (w.heap.size + 1) [.int .u8 (k.toNat : Int), .slice A n c]) := Lib.hid (by
    have := (Bk.new (w.alloc (.cells (cs8 C).toArray 23)) [.int .u8 (k.toNat : Int), .slice A n c] 31).old (.cells z36.toArray 23)
    simpa using this)
  have hsz : (((w.alloc (.cells (cs8 C).toArray 23)).alloc (.cells #[.int .u8 (k.toNat : Int), .slice A n c] 31)).alloc (.cells z36.toArray 23)).heap.size = w.heap.size + 3 := by simp
  rw [show ((w.alloc (.cells (cs8 C).toArray 23)).alloc (.cells #[.int .u8 (k.toNat : Int), .slice A n c] 31)).heap.size = w.heap.size + 2 from by simp]
  generalize (((w.alloc (.cells (cs8 C).toArray 23)).alloc (.cells #[.int .u8 (k.toNat : Int), .slice A n c] 31)).alloc (.cells z36.toArray 23)) = w1 at hB0 HBX HRS HRC hsz ⊢
  have hR := Sb.stays (w.heap.size + 2)
  refine reg_start (Sb (w.heap.size + 2)) follows_mixed ?_
  have hB1 := Lib.hid hB0.drew
  have hX1 := Lib.hid HBX.out.drew
  have hS1 := Lib.hid HRS.out.drew
  have hC1 := Lib.hid HRC.out.drew
  have hz1 : w1.drew.heap.size = w.heap.size + 3 := hsz
  clear HBX HRS HRC hB0 hsz
  generalize w1.drew = w2 at hB1 hX1 hS1 hC1 hz1 ⊢
  refine reg_take (v := .slice (some ⟨w.heap.size, 0, none⟩) 32 32) hR 0 rfl (by kernel_rfl) (by kernel_rfl) (by kernel_rfl) (fun _ _ _ h => h) (by rfl) ?_ ?_
  · intro W hW; exact exec_slice_all _ rfl rfl Try.underlying23 (by decide)
  try simp only [Act.put, List.getElem_toArray, List.getElem_cons_succ, List.getElem_cons_zero, List.setIfInBounds_toArray, List.set_cons_zero, List.set_cons_succ]
  refine reg_take (v := .agg #[.int .u8 (k.toNat : Int), .slice A n c]) hR 1 rfl (by kernel_rfl) (by kernel_rfl) (by kernel_rfl) (fun _ _ _ h => h) (by rfl) ?_ ?_
  · intro W hW; exact exec_load_at 31 _ rfl ⟨w.heap.size + 1, 0, none⟩ rfl [.int .u8 (k.toNat : Int), .slice A n c] _ ((hC1.out.below hW (by omega)).at_) Try.underlying31 rfl (by kernel_rfl)
  try simp only [Act.put, List.getElem_toArray, List.getElem_cons_succ, List.getElem_cons_zero, List.setIfInBounds_toArray, List.set_cons_zero, List.set_cons_succ]
  refine reg_step hR 2 (by kernel_rfl) rfl fun K hK => ?_
  try simp only [Act.put, List.getElem_toArray, List.getElem_cons_succ, List.getElem_cons_zero, List.setIfInBounds_toArray, List.set_cons_zero, List.set_cons_succ]
  go_simp
  refine (content_any k _ (HR.out.top hB1.out) (by omega)).mono ?_; rintro e w3 ⟨v3, rfl, ho3, hb3⟩
  refine hK.out _ _ (hb3.mono (by omega)) ?_
  have hB3 := Lib.hid (bl_call hB1.out hb3)
  have hX3 := Lib.hid (hX1.out.keep hb3)
  have hS3 := Lib.hid (hS1.out.keep hb3)
  have hz3 := hb3.size
  obtain ⟨A3, c3, rfl, hl3⟩ := ho3.sl rfl
  have hT3 := Lib.hid (Rl.two (hX3.out.sl HC.out) hl3 26)
  clear hb3 ho3 hl3 hX1 hS1 hC1 hB1
  clear hK K
  try simp only [Act.put, List.getElem_toArray, List.getElem_cons_succ, List.getElem_cons_zero, List.setIfInBounds_toArray, List.set_cons_zero, List.set_cons_succ]
  refine reg_step hR 3 (by kernel_rfl) rfl fun K hK => ?_
  try simp only [Act.put, List.getElem_toArray, List.getElem_cons_succ, List.getElem_cons_zero, List.setIfInBounds_toArray, List.set_cons_zero, List.set_cons_succ]
  go_simp
  have hB4 := Lib.hid (bl_alloc hB3.out (.cells #[.slice (some ⟨w.heap.size, 0, none⟩) 32 32, .slice A3 (recP k l).length c3] 26))
  have hS4 := Lib.hid (hS3.out.old (.cells #[.slice (some ⟨w.heap.size, 0, none⟩) 32 32, .slice A3 (recP k l).length c3] 26))
  refine hK.out _ _ ((Below.refl _ _).alloc (by omega) _) ?_
  clear hK K
  try simp only [Act.put, List.getElem_toArray, List.getElem_cons_succ, List.getElem_cons_zero, List.setIfInBounds_toArray, List.set_cons_zero, List.set_cons_succ]
  generalize w3.alloc (.cells #[.slice (some ⟨w.heap.size, 0, none⟩) 32 32, .slice A3 (recP k l).length c3] 26) = w4 at hT3 hB4 hS4 ⊢
  have hz4 := hS4.out.lt
  refine reg_step hR 4 (by kernel_rfl) rfl fun K hK => ?_
  try simp only [Act.put, List.getElem_toArray, List.getElem_cons_succ, List.getElem_cons_zero, List.setIfInBounds_toArray, List.set_cons_zero, List.set_cons_succ]
  go_simp
  refine (Sum_any _ hT3.out (by omega) (by have := HT.out; simpa using this)).mono ?_; rintro e w5 ⟨rfl, hb5⟩
  have hB5 := Lib.hid (bl_call hB4.out hb5)
  have hS5 := Lib.hid (hS4.out.keep hb5)
  refine hK.out _ _ (hb5.mono (by omega)) ?_
  rw [← HU.out]
  clear hb5
  clear hK K
  try simp only [Act.put, List.getElem_toArray, List.getElem_cons_succ, List.getElem_cons_zero, List.setIfInBounds_toArray, List.set_cons_zero, List.set_cons_succ]
  refine reg_step hR 5 (by kernel_rfl) rfl fun K hK => ?_
  try simp only [Act.put, List.getElem_toArray, List.getElem_cons_succ, List.getElem_cons_zero, List.setIfInBounds_toArray, List.set_cons_zero, List.set_cons_succ]
  rw [if_pos (by rfl)]
  refine wp_store_bk 23 _ _ rfl (w.heap.size + 2) rfl (cs8 S) z36 rfl hS5.out (by rw [HP.out]; exact info36) (by rw [HP.out]; exact len_z36) (cs8_all _) ?_
  refine hK.out _ _ (below_setRow (Below.refl _ _) (by omega) _) ?_
  clear hK K
  try simp only [Act.put, List.getElem_toArray, List.getElem_cons_succ, List.getElem_cons_zero, List.setIfInBounds_toArray, List.set_cons_zero, List.set_cons_succ]
  refine reg_done (by kernel_rfl) ?_ _
  have hS6 := Lib.hid (hS5.out.setRow (cs8 S))
  have hB6 := Lib.hid (bl_setRow hB5.out (show w.heap.size ≤ w.heap.size + 2 by omega) (cs8 S).toArray)
  go_wp2
  exact ret_bk rfl (w.heap.size + 2) _ _ rfl rfl hS6.out Try.underlying23 rfl (by rw [HP.out]; exact info36) ⟨rfl, hB6.out⟩
end Go.Proofs.Ytjaoaikcmbfnmaa
