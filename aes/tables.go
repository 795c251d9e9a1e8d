package aes

// Mul is the product of two bytes.
func Mul(a, b byte) byte {
	var product byte
	for i := range 8 {
		bit := b >> (7 - i) & 1
		product = byte(doubled(uint32(product))) ^ a*bit
	}
	return product
}

// Box is what the cipher makes of a byte by itself.
func Box(c byte) byte {
	return boxes()[c]
}

// doubled is each of a word's four bytes times x: a bit that leaves its byte comes back as x^4 + x^3 + x + 1.
func doubled(w uint32) uint32 {
	return (w&0x7f7f7f7f)<<1 ^ (w>>7&0x01010101)*0x1b
}

// powers is the powers of x + 1: each byte but 0 is one of them, and the last one is 1 again.
func powers() [256]byte {
	var l [256]byte
	power := byte(1)
	for i := range l {
		l[i] = power
		power ^= byte(doubled(uint32(power)))
	}
	return l
}

// boxes is Box of each byte.
func boxes() [256]byte {
	var l [256]byte
	l[0] = spread(0)
	all := powers()
	for i, c := range all {
		l[c] = spread(all[255-i]) // the product of these two powers is the last one
	}
	return l
}

// inverse is the table that leads back from where a table leads.
func inverse(table [256]byte) [256]byte {
	var l [256]byte
	for i, c := range table {
		l[c] = byte(i)
	}
	return l
}

// spread is a byte xored with itself rotated, and with 0x63.
func spread(c byte) byte {
	wide := uint32(c) ^ uint32(c)<<1 ^ uint32(c)<<2 ^ uint32(c)<<3 ^ uint32(c)<<4
	return byte(wide ^ wide>>8 ^ 0x63) // what left the byte comes back at its other end
}
