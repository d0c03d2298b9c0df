package chacha

import "math/bits"

const (
	tagSize  = 16
	parts    = 5
	partBits = 26
	partMask = 1<<partBits - 1
	fold     = 5 // 2^130 modulo 2^130 - 5

	// Poly1305 keeps only these bits of its factor.
	lowMask  = 0x0ffffffc0fffffff
	highMask = 0x0ffffffc0ffffffc
)

// Tag returns the Poly1305 tag of p.
func Tag(key, p []byte) []byte {
	all := keyOf(key)
	factor := split(low(all[:8])&lowMask, low(all[8:16])&highMask, 0)
	var sum number
	for len(p) >= tagSize {
		sum = sum.plus(split(low(p[:8]), low(p[8:tagSize]), 1)).times(factor)
		p = p[tagSize:]
	}
	if len(p) > 0 {
		var rest [tagSize]byte
		rest[copy(rest[:], p)] = 1
		sum = sum.plus(split(low(rest[:8]), low(rest[8:]), 0)).times(factor)
	}
	first, second := sum.least().joined()
	first, carry := bits.Add64(first, low(all[16:24]), 0)
	second, _ = bits.Add64(second, low(all[24:]), carry)
	return appendLow(appendLow(nil, first, 8), second, 8)
}

// number is a number modulo 2^130 - 5: five parts of 26 bits, the lowest first. What times returns is below 2^130 + 5; its lowest part may be 2^26 and a little more.
type number [parts]uint64

// split makes a number of its 64 lowest bits, the 64 above these, and the top ones.
func split(low, high, top uint64) number {
	return number{
		low & partMask,
		low >> partBits & partMask,
		(low>>(2*partBits) | high<<12) & partMask,
		high >> 14 & partMask,
		high>>40 | top<<24,
	}
}

// joined returns the 64 lowest bits of a number, and the 64 above these.
func (n number) joined() (uint64, uint64) {
	return n[0] | n[1]<<partBits | n[2]<<(2*partBits), n[2]>>12 | n[3]<<14 | n[4]<<40
}

func (n number) plus(m number) number {
	for i := range parts {
		n[i] += m[i]
	}
	return n
}

func (n number) times(factor number) number {
	var out number
	for i := range parts {
		for k := range parts {
			product := n[i] * factor[k]
			if i+k >= parts {
				product *= fold
			}
			out[(i+k)%parts] += product
		}
	}
	for range 2 { // the first leaves up to 34 bits in the lowest part
		rest, beyond := out.carried()
		out = rest.plus(number{fold * beyond})
	}
	return out
}

// least returns the one form of a number that is below 2^130 - 5.
func (n number) least() number {
	if less, beyond := n.plus(number{fold}).carried(); beyond > 0 {
		return less
	}
	n, _ = n.carried()
	return n
}

// carried hands on what each part has above its bits, and returns apart what is beyond the highest one.
func (n number) carried() (number, uint64) {
	var carry uint64
	for i := range parts {
		sum := n[i] + carry
		n[i], carry = sum&partMask, sum>>partBits
	}
	return n, carry
}
