// Package sha is layer 2: SHA-256, HMAC and HKDF (shared/doc/02-sha.md).
package sha

const (
	size      = 32         // bytes of a digest
	most      = 255 * size // HKDF numbers its pieces by one byte
	innerMask = 0x36
	outerMask = 0x5c
)

// Sum returns the SHA-256 digest of the parts, one behind the other.
func Sum(parts ...[]byte) []byte { return sumAfter(nil, parts...) }

// Mac returns the HMAC-SHA-256 under key of the parts, one behind the other.
func Mac(key []byte, parts ...[]byte) []byte {
	if len(key) > block {
		key = Sum(key)
	}
	return sumAfter(masked(key, outerMask), sumAfter(masked(key, innerMask), parts...))
}

// Extract returns the HKDF key of a secret, by salt.
func Extract(salt, secret []byte) []byte { return Mac(salt, secret) }

// Expand returns the first n bytes, at most 8160, that HKDF derives from key for info.
func Expand(key, info []byte, n int) []byte {
	n = min(n, most)
	if n < 1 {
		return nil
	}
	out := make([]byte, 0, n+size-1)
	var piece []byte
	for i := byte(1); len(out) < n; i++ {
		piece = Mac(key, piece, info, []byte{i})
		out = append(out, piece...)
	}
	return out[:n:n]
}

// Wide returns 64 bytes: the digests of the parts behind the byte 0, and behind the byte 1.
func Wide(parts ...[]byte) []byte {
	out := append(sumAfter([]byte{0}, parts...), sumAfter([]byte{1}, parts...)...)
	return out[: 2*size : 2*size]
}

func sumAfter(head []byte, parts ...[]byte) []byte {
	d := digest{value: start()}
	d.take(head)
	for _, p := range parts {
		d.take(p)
	}
	return d.end()
}

// masked expects a key of at most one block.
func masked(key []byte, mask byte) []byte {
	var pad [block]byte
	copy(pad[:], key)
	for i := range pad {
		pad[i] ^= mask
	}
	return pad[:]
}
