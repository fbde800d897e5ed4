/- The chapter's examples live. -/
import Derived.Test.YtphifbhgocjhcaaFl
import Derived.Test.YtphifbhgocjhcaaFg
import Derived.Test.YtphifbhgocjhcaaFh
namespace Go.Proofs.Ytphifbhgocjhcaa
set_option linter.unusedSimpArgs false
set_option linter.unusedVariables false
open Go.RowKit Go.Maps

/-- A disk's three blocks lie from block b on. -/
def Hi (b p s m : Nat) : Prop := b ≤ p ∧ b ≤ s ∧ b ≤ m
theorem new_any (w : World) (n : Nat) (h0 : 0 < n) (h1 : n ≤ 16384) : Calls Try.prog 8 #[.int .i64 (n : Int)] w fun e w' => ∃ p s m, e = .returned (.tuple #[ptr p, .int .i64 0]) ∧ Dk w' p s m (zs (n * 256)) (noC n) ∧ Hi w.heap.size p s m ∧ Below w.heap.size w w' :=
  (new_ok w n h0 h1).mono fun e w' ⟨he, hw⟩ => by
    subst hw
    exact ⟨_, _, _, he, nw_dk w n h0 h1, ⟨by omega, by omega, by omega⟩, nw_below w n⟩
/-- What changes a disk's own blocks alone leaves what lay before the call. -/
theorem bl_dk {w w1 w2 : World} {p s m : Nat} {may : Nat → Prop} (h : Below w.heap.size w w1) (k : Kp may w1 w2) (hm : ∀ k, may k → w.heap.size ≤ k) : Below w.heap.size w w2 := h.trans (k.below h.size hm)
theorem rd_row {w : World} {g : Nat} {b : UInt8} (h : Row w g (List.replicate 256 b)) : Rd w w.heap.size (some ⟨g, 0, none⟩) 256 256 (List.replicate 256 b) := by
  have := h.rd
  rw [List.length_replicate] at this
  exact this

/-- The examples' disks. -/
def exC1 : Ca := [some (List.replicate 256 1), none]
def exC : Ca := [some (List.replicate 256 1), some (List.replicate 256 2)]
def exA : List UInt8 := settle exC (chosen (idx 0 exC) [false, true]) (zs 512)
def exB : List UInt8 := settle exC (chosen (idx 0 exC) []) (zs 512)
theorem exA_len : exA.length = 512 := by decide +kernel
theorem exB_len : exB.length = 512 := by decide +kernel
theorem exA_0 : exA[0]? = some 0 := by decide +kernel
theorem exA_256 : exA[256]? = some 2 := by decide +kernel
theorem exB_0 : exB[0]? = some 0 := by decide +kernel
theorem exB_256 : exB[256]? = some 0 := by decide +kernel
theorem ex_1 : (noC 2).set 0 (some (List.replicate 256 1)) = exC1 := rfl
theorem ex_2 : exC1.set 1 (some (List.replicate 256 2)) = exC := rfl
theorem ex_l1 : exC1.length = 2 := rfl
theorem ex_l2 : exC.length = 2 := rfl
theorem Bi.two (w : World) (a b : Bool) : Bi (w.alloc (.cells #[.bool a, .bool b] 4)) (w.heap.size + 1) (some ⟨w.heap.size, 0, none⟩) 2 2 [a, b] := by
  refine ⟨rfl, Nat.le_refl _, fun _ => ⟨_, rfl, by simp, fun j u hu => ?_⟩⟩
  rw [Addr.add_mid, cell_of_row _ w.heap.size _ _ 4 (0, 0) (heap_alloc_new w _)]
  rcases j with _ | _ | j
  · simp at hu; subst hu; rfl
  · simp at hu; subst hu; rfl
  · simp at hu

set_option maxRecDepth 100000 in
theorem lives_any (w : World) : Calls Try.prog 14 #[] w fun e w' => e = .returned (.bool true) ∧ Below w.heap.size w w' := by
  go_enter Try.func14, Try.ntmps14
  go_wp2_with fail
  refine (new_any w 2 (by omega) (by omega)).mono ?_
  rintro e w1 ⟨p, s, m, rfl, hd, hhi, hb⟩
  have HD := Lib.hid hd
  have HH := Lib.hid hhi
  have HB := Lib.hid hb
  clear hd hhi hb
  go_wp2_with fail
  refine (row_any _ 1).mono ?_
  rintro e w2 ⟨rfl, hr, hb⟩
  have HR := Lib.hid (rd_row hr)
  have HD := Lib.hid (HD.out.old hb)
  have HB := Lib.hid (bl_call HB.out hb)
  clear hr hb
  go_wp2_with fail
  refine (write_ok HD.out 0 (by decide) HR.out).mono ?_
  rintro e w3 ⟨rfl, hd, hk⟩
  rw [ex_1] at hd
  have HB := Lib.hid (HB.out.trans (hk.below HB.out.size (fun k e => by have := HH.out.2.2; omega)))
  have HD := Lib.hid hd
  clear hd hk
  go_wp2_with fail
  refine (row_any _ 2).mono ?_
  rintro e w4 ⟨rfl, hr, hb⟩
  have HR := Lib.hid (rd_row hr)
  have HD := Lib.hid (HD.out.old hb)
  have HB := Lib.hid (bl_call HB.out hb)
  clear hr hb
  go_wp2_with fail
  refine (write_ok HD.out 1 (by decide) HR.out).mono ?_
  rintro e w5 ⟨rfl, hd, hk⟩
  rw [ex_2] at hd
  have HB := Lib.hid (HB.out.trans (hk.below HB.out.size (fun k e => by have := HH.out.2.2; omega)))
  have HD := Lib.hid hd
  clear hd hk
  go_wp2_with fail
  refine (clone_any HD.out).mono ?_
  rintro e w6 ⟨p', s', m', rfl, hd', hhi', hb⟩
  have HS := Lib.hid HB.out.size
  have HP := Lib.hid (And.intro HD.out.plt (And.intro HD.out.slt HD.out.mlt))
  have HD := Lib.hid (HD.out.old hb)
  have HD' := Lib.hid hd'
  have HH' := Lib.hid hhi'
  have HB := Lib.hid (bl_call HB.out hb)
  clear hd' hhi' hb
  go_wp2_with fail
  have HT := Lib.hid (bl_alloc (bl0 w6) (.cells #[.bool false, .bool true] 4))
  refine (crash_any (HD'.out.old HT.out) (Bi.two w6 false true) (by simp) (by omega)).mono ?_
  rintro e w7 ⟨rfl, hd, hk⟩
  have HD' : Hid (Dk w7 p' s' m' exA (noC 2)) := Lib.hid hd
  have HS6 := Lib.hid HT.out.size
  have HD := Lib.hid ((HD.out.old HT.out).kp hk (fun h => by have := HH'.out; have := HP.out; unfold Hi at *; omega) (fun h => by have := HH'.out; have := HP.out; unfold Hi at *; omega) (fun h => by have := HH'.out; have := HP.out; unfold Hi at *; omega))
  have HB := Lib.hid ((bl_call HB.out HT.out).trans (hk.below (Nat.le_trans HB.out.size HS6.out) (fun k e => by have := HH'.out; have := HS.out; unfold Hi at *; omega)))
  clear hd hk
  go_wp2_with fail
  refine (crash_any HD.out (Bi.nil _ 0 0 none) (Nat.zero_le _) (by omega)).mono ?_
  rintro e w8 ⟨rfl, hd, hk⟩
  have HZ := Lib.hid (And.intro HD'.out.plt (And.intro HD'.out.slt HD'.out.mlt))
  have HPS := Lib.hid (And.intro HD.out.plt (And.intro HD.out.slt HD.out.mlt))
  have HD' := Lib.hid (HD'.out.kp hk (fun h => by have := HH'.out; have := HP.out; unfold Hi at *; omega) (fun h => by have := HH'.out; have := HP.out; unfold Hi at *; omega) (fun h => by have := HH'.out; have := HP.out; unfold Hi at *; omega))
  have HD : Hid (Dk w8 p s m exB (noC 2)) := Lib.hid hd
  have HB := Lib.hid (HB.out.trans (hk.below HB.out.size (fun k e => by have := HH.out; unfold Hi at *; omega)))
  clear hd hk
  go_wp2_with fail
  refine (image_any HD'.out).mono ?_
  rintro e w9 ⟨v, rfl, ho, hb⟩
  obtain ⟨A, c, rfl, hr⟩ := ho.rdN exA_len
  have HR := Lib.hid hr
  have HD := Lib.hid (HD.out.old hb)
  have HB := Lib.hid (bl_call HB.out hb)
  clear ho hr hb
  go_wp2_with fail
  refine (image_any HD.out).mono ?_
  rintro e w10 ⟨v2, rfl, ho, hb⟩
  obtain ⟨A2, c2, rfl, hr⟩ := ho.rdN exB_len
  have hr1 := HR.out.below hb
  have HB := Lib.hid (bl_call HB.out hb)
  clear ho hb
  obtain ⟨ad, rfl, _, hc⟩ := hr1.2.2 (by omega)
  obtain ⟨ad2, rfl, _, hc2⟩ := hr.2.2 (by omega)
  have a0 := hc 0 0 exA_0
  have a1 := hc 256 2 exA_256
  have b0 := hc2 0 0 exB_0
  have b1 := hc2 256 0 exB_256
  have B0 : B8 0 = .int .u8 0 := rfl
  have B2 : B8 2 = .int .u8 2 := rfl
  rw [B0] at a0 b0 b1
  rw [B2] at a1
  have a0' : w10.cell? ad = some (.int .u8 0) := by rw [show ad = ad.add 0 by unfold Addr.add; simp]; exact a0
  have b0' : w10.cell? ad2 = some (.int .u8 0) := by rw [show ad2 = ad2.add 0 by unfold Addr.add; simp]; exact b0
  have a1' : w10.cell? ⟨ad.block, ad.off + 256, none⟩ = some (.int .u8 2) := by simpa [Addr.add] using a1
  have b1' : w10.cell? ⟨ad2.block, ad2.off + 256, none⟩ = some (.int .u8 0) := by simpa [Addr.add] using b1
  clear hc hc2 hr hr1 B0 B2
  go_wp2
  go_ret
  exact ⟨rfl, HB.out⟩
end Go.Proofs.Ytphifbhgocjhcaa
