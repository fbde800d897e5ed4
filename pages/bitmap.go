package pages

import "math/bits"

const wordBits = 64

// bitmap is a set of numbers, a bit of each.
type bitmap []uint64

// newBitmap answers a set of nothing, with room for the numbers below n.
func newBitmap(n int) bitmap {
	return make(bitmap, (n+wordBits-1)/wordBits)
}

func (b bitmap) has(n int) bool {
	return 0 <= n && n < len(b)*wordBits && b[n/wordBits]>>(n%wordBits)&1 == 1
}

func (b bitmap) add(n int) { b[n/wordBits] |= 1 << (n % wordBits) }

func (b bitmap) remove(n int) { b[n/wordBits] &^= 1 << (n % wordBits) }

// least answers the least number that the set has not: where all words are full, the one behind them.
func (b bitmap) least() int {
	for i, word := range b {
		if nought := bits.TrailingZeros64(^word); nought < wordBits {
			return i*wordBits + nought
		}
	}
	return len(b) * wordBits
}

func (b bitmap) size() int {
	ones := 0
	for _, word := range b {
		ones += bits.OnesCount64(word)
	}
	return ones
}

// members answers the numbers of the set, rising.
func (b bitmap) members() []int {
	list := make([]int, 0, b.size())
	for i, word := range b {
		for word != 0 {
			list = append(list, i*wordBits+bits.TrailingZeros64(word))
			word &= word - 1
		}
	}
	return list
}
