package impl

import "strconv"

const (
	maxPutBytes = 8
	maxGetBytes = 7 // eight could tell more than an int holds
	maxNumber   = 1000000000
	crcTurn     = 2197175160
)

func PutBig(b []byte, n int, k int) []byte {
	if k < 1 || k > maxPutBytes {
		k = 0
	}
	n = max(n, 0)
	out := make([]byte, len(b), len(b)+k)
	copy(out, b)
	for shift := 8 * (k - 1); shift >= 0; shift -= 8 {
		out = append(out, byte(n>>shift))
	}
	return out
}

func GetBig(b []byte, at int, k int) (int, bool) {
	if k < 1 || k > maxGetBytes {
		return 0, false
	}
	// at+k might wrap round, len(b)-k can not.
	if at < 0 || at > len(b)-k {
		return 0, false
	}
	n := 0
	for _, x := range b[at : at+k] {
		n = n<<8 | int(x)
	}
	return n, true
}

func Crc(b []byte) int {
	sum := ^uint32(0)
	for _, x := range b {
		sum = crcByte(sum, x)
	}
	return int(^sum)
}

func crcByte(sum uint32, x byte) uint32 {
	sum ^= uint32(x)
	for range 8 {
		low := sum & 1
		sum >>= 1
		if low == 1 {
			sum ^= crcTurn
		}
	}
	return sum
}

func Text(n int) string {
	if n < 0 || n > maxNumber {
		return ""
	}
	return strconv.Itoa(n)
}

func Number(s string) (int, bool) {
	return numberUpTo(s, maxNumber)
}

func numberUpTo(s string, most int) (int, bool) {
	n, err := strconv.Atoi(s)
	// Atoi takes signs and needless noughts, too: only what Itoa answers is a number.
	if err != nil || n < 0 || n > most || strconv.Itoa(n) != s {
		return 0, false
	}
	return n, true
}
