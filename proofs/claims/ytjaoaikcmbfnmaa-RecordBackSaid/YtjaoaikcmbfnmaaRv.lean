/- record: Read of a record that is good. -/
import Derived.Test.YtjaoaikcmbfnmaaRy
import Derived.IntWalk
namespace Go.Proofs.Ytjaoaikcmbfnmaa
set_option maxRecDepth 8192
set_option linter.unusedSimpArgs false
set_option linter.unusedVariables false
open Go.RowKit

theorem all_rec (k : Int) (A : Option Addr) (n c : Nat) : ([.int .u8 k, .slice A n c] : List Value).toArray.all (·.oneCell') = true := by simp [Value.oneCell']
/-- Block g and the next may change. -/
def two (g k : Nat) : Prop := k = g ∨ k = g + 1

set_option maxHeartbeats 1600000 in
theorem Read_ok {A : Option Addr} {n c : Nat} {C l : List UInt8} (w : World) (hC : C.length = 32) (hr : Rd w w.heap.size A n c l) (hn : n ≤ 1073741824) (h : (parse l).err = 0) (ht : (parse l).told = (nextR C (parse l).kind (parse l).data).take 8) :
    Calls Try.prog 9 #[.agg (cs8 C).toArray, .slice A n c] w (ReadOk w (nextR C (parse l).kind (parse l).data) (parse l).kind (parse l).data (l.length - (parse l).rest.length)) := by
  have HR := Lib.hid hr
  have hln := hr.len
  have HP := Lib.hid (fun (W : World) (g : Nat) (k : Rdr W g l 0) => parts_ok W k (by omega) h)
  have hpb := parse_back l h
  have hd8 := hpb.2.1.2
  have HL := Lib.hid (Laid3.mk0 w C)
  have hrl : (parse l).rest.length ≤ l.length := by
    have := congrArg List.length hpb.1
    simp only [List.length_append] at this
    omega
  generalize parse l = p at HP ht hd8 hrl ⊢
  obtain ⟨k, d, s, t, err⟩ := p
  simp only at HP ht hd8 hrl ⊢
  have hsub : IntKind.i64.wrap ((n : Int) - (t.length : Int)) = ((l.length - t.length : Nat) : Int) := by rw [hln] at hrl; rw [IntWalk.i64_in _ (by omega)]; omega
  have HSUB := Lib.hid hsub
  have HN := Lib.hid (fun (W : World) (B : Option Addr) (m q : Nat) (hh : Rd W W.heap.size B m q d) => Next_any k W hC hh (by have := hh.len; omega))
  have HC8 := Lib.hid (show (cs8 C).length = 32 by rw [cs8_length, hC])
  have HS8 := Lib.hid (show (cs8 (nextR C k d)).length = 32 by rw [cs8_length, nextR_length])
  have HSL := Lib.hid (nextR_length C k d)
  have HT := Lib.hid ht
  generalize nextR C k d = S at HN HS8 HSL HT ⊢
  clear hr h hln ht hpb hC hrl hsub
  go_enter Try.func9, Try.ntmps9
  go_wp2_with (refine wpList_alloc_z rfl 23 rfl z36 zero36 ?_)
  generalize (((w.alloc (.cells (cs8 C).toArray 23)).alloc (.cells #[.int .u8 0, .slice none 0 0] 31)).alloc (.cells z36.toArray 23)) = w1 at HL ⊢
  refine (Read_any w1 (HR.out.top HL.out.bel) (by omega)).mono ?_; rintro e w2 ⟨g, rfl, hg, hRd, hb⟩
  have HL2 := Lib.hid (HL.out.keep hb)
  have hlt := HL.out.lt
  clear hb HL
  go_wp2_with fail
  refine (HP.out _ _ hRd).mono ?_; rintro e w3 ⟨A3, n3, c3, v3, rfl, hD3, hT3, hR3, hO3⟩
  have HL3 := Lib.hid (HL2.out.only hO3 (by omega))
  have hlt3 := HL3.out.lt
  obtain ⟨A4, c4, rfl, hr4⟩ := hT3.rdN rfl
  obtain ⟨A5, c5, e5, hr5⟩ := hD3.rdN rfl
  injection e5 with e51 e52 e53
  subst e51 e52 e53
  have HL4 := Lib.hid (HL3.out.keep (bl_alloc (bl0 w3) (.cells #[.int .u8 (k.toNat : Int), .slice A3 d.length c3] 31)))
  have HB4 := Lib.hid (Bk.new w3 [.int .u8 (k.toNat : Int), .slice A3 d.length c3] 31)
  have HT4 := Lib.hid (hr4.top (bl_alloc (bl0 w3) (.cells #[.int .u8 (k.toNat : Int), .slice A3 d.length c3] 31)))
  have HD4 := Lib.hid (hr5.top (bl_alloc (bl0 w3) (.cells #[.int .u8 (k.toNat : Int), .slice A3 d.length c3] 31)))
  have HR4 := Lib.hid (hR3.below (bl_alloc (bl0 w3) (.cells #[.int .u8 (k.toNat : Int), .slice A3 d.length c3] 31)))
  have HO4 := Lib.hid (Ow.alloc hD3 (.cells #[.int .u8 (k.toNat : Int), .slice A3 d.length c3] 31))
  have hz2 := hO3.size
  have hg3 := hR3.lt
  have hw2 := HL2.out.lt
  clear hO3 HL2 hRd HL3 hD3 hT3 hr4 hr5 hR3
  go_wp2_with (first | (refine wpList_load_at rfl 23 _ rfl ⟨w.heap.size, 0, none⟩ rfl (cs8 C) _ HL4.out.c.at_ Try.underlying23 rfl (by rw [HC8.out]; exact info36) ?_))
  generalize hw4 : w3.alloc (.cells #[.int .u8 (k.toNat : Int), .slice A3 d.length c3] 31) = w4 at HL4 HB4 HT4 HD4 HR4 HO4 ⊢
  generalize w3.heap.size = b9 at hlt3 HB4 hz2 hg3 ⊢
  clear hw4
  refine (HN.out _ _ _ _ HD4.out).mono ?_; rintro e w5 ⟨rfl, hb⟩
  have HL5 := Lib.hid (HL4.out.keep hb)
  have HB5 := Lib.hid (HB4.out.keep hb)
  have HT5 := Lib.hid (HT4.out.top hb)
  have HR5 := Lib.hid (HR4.out.below hb)
  have HO5 := Lib.hid (HO4.out.below hb)
  clear hb HL4 HB4 HT4 HD4 HR4 HO4
  have hN6 := Lib.hid (Bk.new w5 z36 23)
  have hL6 := Lib.hid (hN6.out.setRow (cs8 S))
  have hbb : Below w5.heap.size w5 ((w5.alloc (.cells z36.toArray 23)).setRow w5.heap.size (cs8 S).toArray) := bl_setRow (bl_alloc (bl0 w5) _) (Nat.le_refl _) _
  have HL6 := Lib.hid (HL5.out.keep hbb)
  have HT6 := Lib.hid (HT5.out.top hbb)
  have hb56 := HB5.out.lt
  have hsl := run_slice_hi (g := w5.heap.size) Try.underlying23 (show 8 ≤ 32 by decide) (by decide)
  have HR6 := Lib.hid (HR5.out.below hbb)
  have HO6 := Lib.hid (HO5.out.below hbb)
  have HB6 := Lib.hid (HB5.out.keep hbb)
  clear hbb HL5 HT5 HB5 HR5 HO5
  go_wp2_with (first | (refine wpList_alloc_z rfl 23 rfl z36 zero36 ?_) | (refine wpList_store_bk rfl 23 _ _ rfl w5.heap.size rfl (cs8 S) z36 rfl hN6.out (by rw [HS8.out]; exact info36) (by rw [HS8.out]; exact len_z36) (cs8_all _) ?_))
  generalize (w5.alloc (.cells z36.toArray 23)).setRow w5.heap.size (cs8 S).toArray = w6 at hL6 HL6 HT6 HR6 HO6 HB6 ⊢
  generalize w5.heap.size = b12 at hb56 hL6 hsl ⊢
  refine (Equal_yes w6 HT6.out ((hL6.out.sl HSL.out).rd.take_ (k := 8) (by decide)) HT.out).mono ?_; rintro e w' ⟨rfl, rfl⟩
  clear hsl HT6
  go_wp2
  have hw1 := HL6.out.lt
  have hR := Kp.stays (two (w.heap.size + 1))
  refine reg_start (Kp (two (w.heap.size + 1))) follows_mixed ?_
  have HL7 := Lib.hid (HL6.out.keep (Below.refl _ w6).drew)
  have hL7 := Lib.hid hL6.out.drew
  have HB7 := Lib.hid HB6.out.drew
  have HR7 := Lib.hid (HR6.out.below (Below.refl _ w6).drew)
  have HO7 : Hid (Ow w6.drew w2.heap.size (.slice A3 d.length c3) d) := Lib.hid (HO6.out.below (Below.refl _ w6).drew)
  clear HL6 hL6 HB6 HR6 HO6
  generalize w6.drew = w7 at HL7 hL7 HB7 HR7 HO7 ⊢
  generalize w2.heap.size = b2 at hw2 hz2 HO7 ⊢
  refine reg_take (v := .agg #[.int .u8 (k.toNat : Int), .slice A3 d.length c3]) hR 0 rfl (by kernel_rfl) (by kernel_rfl) (by kernel_rfl) (fun _ _ _ h => h) (by rfl) ?_ ?_
  · intro W hW; exact exec_load_at 31 _ rfl ⟨b9, 0, none⟩ rfl [.int .u8 (k.toNat : Int), .slice A3 d.length c3] _ (HB7.out.kp hW (by unfold two; omega)).at_ Try.underlying31 rfl info31
  try simp only [Act.put, List.getElem_toArray, List.getElem_cons_succ, List.getElem_cons_zero, List.setIfInBounds_toArray, List.set_cons_zero, List.set_cons_succ]
  refine reg_take (v := .slice A n c) hR 1 rfl (by kernel_rfl) (by kernel_rfl) (by kernel_rfl) (fun _ _ _ h => h) (by rfl) ?_ ?_
  · intro W hW; go_simp; try with_reducible rfl
  try simp only [Act.put, List.getElem_toArray, List.getElem_cons_succ, List.getElem_cons_zero, List.setIfInBounds_toArray, List.set_cons_zero, List.set_cons_succ]
  refine reg_take (v := .int .i64 (n : Int)) hR 2 rfl (by kernel_rfl) (by kernel_rfl) (by kernel_rfl) (fun _ _ _ h => h) (by rfl) ?_ ?_
  · intro W hW; go_simp; try with_reducible rfl
  try simp only [Act.put, List.getElem_toArray, List.getElem_cons_succ, List.getElem_cons_zero, List.setIfInBounds_toArray, List.set_cons_zero, List.set_cons_succ]
  refine reg_take (v := .pointer (some ⟨g, 0, none⟩)) hR 3 rfl (by kernel_rfl) (by kernel_rfl) (by kernel_rfl) (fun _ _ _ h => h) (by rfl) ?_ ?_
  · intro W hW; go_simp; try with_reducible rfl
  try simp only [Act.put, List.getElem_toArray, List.getElem_cons_succ, List.getElem_cons_zero, List.setIfInBounds_toArray, List.set_cons_zero, List.set_cons_succ]
  refine reg_take (v := .agg (cs8 S).toArray) hR 6 rfl (by kernel_rfl) (by kernel_rfl) (by kernel_rfl) (fun _ _ _ h => h) (by rfl) ?_ ?_
  · intro W hW; exact exec_load_at 23 _ rfl ⟨b12, 0, none⟩ rfl (cs8 S) _ (hL7.out.kp hW (by unfold two; omega)).at_ Try.underlying23 rfl (by rw [HS8.out]; exact info36)
  try simp only [Act.put, List.getElem_toArray, List.getElem_cons_succ, List.getElem_cons_zero, List.setIfInBounds_toArray, List.set_cons_zero, List.set_cons_succ]
  refine reg_step hR 4 (by kernel_rfl) rfl fun K hK => ?_
  try simp only [Act.put, List.getElem_toArray, List.getElem_cons_succ, List.getElem_cons_zero, List.setIfInBounds_toArray, List.set_cons_zero, List.set_cons_succ]
  go_simp
  refine (RLeft_any HR7.out (by decide)).mono ?_; rintro e w' ⟨rfl, rfl⟩
  refine hK.out _ _ (hR.refl _) ?_
  clear hK K
  try simp only [Act.put, List.getElem_toArray, List.getElem_cons_succ, List.getElem_cons_zero, List.setIfInBounds_toArray, List.set_cons_zero, List.set_cons_succ]
  refine reg_take (v := .int .i64 ((l.length - t.length : Nat) : Int)) hR 5 rfl (by kernel_rfl) (by kernel_rfl) (by kernel_rfl) (fun _ _ _ h => h) (by rfl) ?_ ?_
  · intro W hW
    have := HSUB.out
    go_simp
    try rw [this]
  try simp only [Act.put, List.getElem_toArray, List.getElem_cons_succ, List.getElem_cons_zero, List.setIfInBounds_toArray, List.set_cons_zero, List.set_cons_succ]
  refine reg_step hR 7 (by kernel_rfl) rfl fun K hK => ?_
  try simp only [Act.put, List.getElem_toArray, List.getElem_cons_succ, List.getElem_cons_zero, List.setIfInBounds_toArray, List.set_cons_zero, List.set_cons_succ]
  rw [if_pos (by rfl)]
  refine wp_store_bk 31 _ _ rfl (w.heap.size + 1) rfl [.int .u8 (k.toNat : Int), .slice A3 d.length c3] z31 rfl HL7.out.r info31 rfl (all_rec _ _ _ _) ?_
  refine hK.out _ _ (kp_setRow _ _ _ (by unfold two; omega)) ?_
  have HP8 := Lib.hid (HL7.out.r.setRow [.int .u8 (k.toNat : Int), .slice A3 d.length c3])
  have HZ8 := Lib.hid (HL7.out.d.other (show w.heap.size + 1 + 1 ≠ w.heap.size + 1 by omega) [Value.int .u8 (k.toNat : Int), .slice A3 d.length c3].toArray)
  have HO8 := Lib.hid (HO7.out.setRow (k := w.heap.size + 1) (fun e => by have := (World.ownsRow.lt HO7.out _ e).1; omega) [Value.int .u8 (k.toNat : Int), .slice A3 d.length c3].toArray)
  have HB8 := Lib.hid (bl_setRow HL7.out.bel (show w.heap.size ≤ w.heap.size + 1 by omega) [Value.int .u8 (k.toNat : Int), .slice A3 d.length c3].toArray)
  clear hK K
  try simp only [Act.put, List.getElem_toArray, List.getElem_cons_succ, List.getElem_cons_zero, List.setIfInBounds_toArray, List.set_cons_zero, List.set_cons_succ]
  refine reg_take (v := .int .i64 ((l.length - t.length : Nat) : Int)) hR 8 rfl (by kernel_rfl) (by kernel_rfl) (by kernel_rfl) (fun _ _ _ h => h) (by rfl) ?_ ?_
  · intro W hW; go_simp; try with_reducible rfl
  try simp only [Act.put, List.getElem_toArray, List.getElem_cons_succ, List.getElem_cons_zero, List.setIfInBounds_toArray, List.set_cons_zero, List.set_cons_succ]
  refine reg_step hR 9 (by kernel_rfl) rfl fun K hK => ?_
  try simp only [Act.put, List.getElem_toArray, List.getElem_cons_succ, List.getElem_cons_zero, List.setIfInBounds_toArray, List.set_cons_zero, List.set_cons_succ]
  rw [if_pos (by rfl)]
  refine wp_store_bk 23 _ _ rfl (w.heap.size + 1 + 1) rfl (cs8 S) z36 rfl HZ8.out (by rw [HS8.out]; exact info36) (by rw [HS8.out]; exact len_z36) (cs8_all _) ?_
  refine hK.out _ _ (kp_setRow _ _ _ (by unfold two; omega)) ?_
  clear hK K
  try simp only [Act.put, List.getElem_toArray, List.getElem_cons_succ, List.getElem_cons_zero, List.setIfInBounds_toArray, List.set_cons_zero, List.set_cons_succ]
  refine reg_take (v := .int .i64 0) hR 10 rfl (by kernel_rfl) (by kernel_rfl) (by kernel_rfl) (fun _ _ _ h => h) (by rfl) ?_ ?_
  · intro W hW; go_simp; try with_reducible rfl
  try simp only [Act.put, List.getElem_toArray, List.getElem_cons_succ, List.getElem_cons_zero, List.setIfInBounds_toArray, List.set_cons_zero, List.set_cons_succ]
  refine reg_done (by kernel_rfl) ?_ _
  have HP9 := Lib.hid (HP8.out.other (show w.heap.size + 1 ≠ w.heap.size + 1 + 1 by omega) (cs8 S).toArray)
  have HZ9 := Lib.hid (HZ8.out.setRow (cs8 S))
  have HO9 := Lib.hid (HO8.out.setRow (k := w.heap.size + 1 + 1) (fun e => by have := (World.ownsRow.lt HO8.out _ e).1; omega) (cs8 S).toArray)
  have HB9 := Lib.hid (bl_setRow HB8.out (show w.heap.size ≤ w.heap.size + 1 + 1 by omega) (cs8 S).toArray)
  go_wp2
  refine ret_ctct rfl rfl rfl (load_bk HP9.out Try.underlying31 rfl info31) rfl (load_bk HZ9.out Try.underlying23 rfl (by rw [HS8.out]; exact info36)) ⟨A3, _, c3, rfl, HO9.out.lower (by omega), HB9.out⟩
end Go.Proofs.Ytjaoaikcmbfnmaa
