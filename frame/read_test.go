package frame_test

import (
	"fmt"
	"math"
	"slices"
	"strings"
	"testing"

	"herald/api"
	"herald/frame"
)

// raw is a frame's bytes, right or wrong.
func raw(kind, flags int, stream uint32, payload string) string {
	return bytesOf(fmt.Sprintf("%06x%02x%02x%08x", len(payload), kind, flags, stream)) + payload
}

// streamFor is one that the type may have.
func streamFor(kind int) uint32 {
	if streamsOf(kind) == "connection" {
		return 0
	}
	return 3
}

// TestReadMost: what most counts as, and that the length is looked at first.
func TestReadMost(t *testing.T) {
	for _, x := range []struct{ most, counts int }{
		{math.MinInt, 16384}, {-1, 16384}, {0, 16384}, {1, 16384}, {16383, 16384}, {16384, 16384}, {16385, 16385}, {30000, 30000},
		{65535, 65535}, {65536, 65536}, {65537, 65536}, {1 << 24, 65536}, {1 << 32, 65536}, {math.MaxInt, 65536},
	} {
		most := int64(x.most)
		b := raw(9, 0, 1, strings.Repeat("x", x.counts))
		wantFrame(t, b, most, api.Frame{Type: 9, Stream: 1, Data: strings.Repeat("x", x.counts)}, x.counts+9)
		wantFault(t, b[:9], most, 0, more)
		wantFault(t, b[:len(b)-1], most, 0, more)
		b = raw(9, 0, 1, strings.Repeat("x", x.counts+1))
		wantFault(t, b, most, 0, size)
		wantFault(t, b[:9], most, 0, size)
		wantFault(t, b[:8], most, 0, more)
		wantFault(t, "\xff\xff\xff"+b[3:], most, 0, size)
	}
}

// The lengths that a type may have, by hand; -1 stands for all greater ones.
var lengths = []struct {
	kind, flags int
	right       []int
}{
	{0, 0, []int{0, -1}}, {0, 8, []int{1, -1}},
	{1, 0, []int{0, -1}}, {1, 8, []int{1, -1}}, {1, 32, []int{5, -1}}, {1, 40, []int{6, -1}},
	{2, 0, []int{5}}, {3, 0, []int{4}},
	{4, 0, []int{0, 6, 12, 18, 24, 30}}, {4, 1, []int{0}},
	{5, 0, []int{4, -1}}, {5, 8, []int{5, -1}},
	{6, 0, []int{8}}, {6, 1, []int{8}},
	{7, 0, []int{8, -1}}, {8, 0, []int{4}}, {9, 0, []int{0, -1}},
	{10, 0, []int{0, -1}}, {10, 8, []int{0, -1}}, {11, 255, []int{0, -1}}, {255, 40, []int{0, -1}},
}

// TestReadLengths: padding is 0 where there is any, so that the length alone is
// looked at. Flags that the type hasn't make no difference.
func TestReadLengths(t *testing.T) {
	for _, x := range lengths {
		foreign := 255 - knownFlags(x.kind, 255)
		for n := range 32 {
			last := x.right[len(x.right)-1]
			right := slices.Contains(x.right, n) || last == -1 && n > x.right[0]
			for _, flags := range []int{x.flags, x.flags | foreign} {
				b := raw(x.kind, flags, streamFor(x.kind), strings.Repeat("\x00", n))
				f, k, y := frame.Read(b, 0)
				switch {
				case right && (f.Type != x.kind || f.Flags != x.flags || f.Stream != int64(streamFor(x.kind)) || k != 9+n || y != (api.Fault{})):
					t.Errorf("P6.2: Read(%x) = %s, %d, %v, want a frame", b, shown(f), k, y)
				case !right && x.kind == 2:
					wantFault(t, b, 0, 9+n, api.Fault{Code: 6, Stream: 3})
				case !right:
					wantFault(t, b, 0, 0, size)
				}
				wantRead(t, b, 0)
			}
		}
	}
}

// TestReadLongWrong: lengths that are wrong and near the greatest.
func TestReadLongWrong(t *testing.T) {
	for _, n := range []int{16380, 16383, 16384, 65532, 65535, 65536} {
		for kind := range 11 {
			wantRead(t, raw(kind, 0, streamFor(kind), strings.Repeat("\x01", n)), int64(n))
			wantRead(t, raw(kind, 255, streamFor(kind), strings.Repeat("\x01", n)), int64(n))
		}
	}
	wantFault(t, raw(2, 0, 3, strings.Repeat("p", 65536)), 65536, 65545, api.Fault{Code: 6, Stream: 3})
	wantFault(t, raw(2, 0, 3, strings.Repeat("p", 65536)), 65535, 0, size)
	wantFault(t, raw(2, 0, 3, ""), 0, 9, api.Fault{Code: 6, Stream: 3})
}

// TestReadPadding: as much as there is, and one more; behind what stands ahead
// of Data no byte may be the padding's.
func TestReadPadding(t *testing.T) {
	for _, x := range []struct {
		kind, flags int
		ahead       string
	}{
		{0, 8, ""}, {1, 8, ""}, {1, 40, "\x00\x00\x00\x01\x02"}, {5, 8, "\x00\x00\x00\x04"},
	} {
		for room := range 260 {
			behind := strings.Repeat("\xee", room)
			for _, pad := range []int{0, 1, room - 1, room, room + 1, room + len(x.ahead), room + len(x.ahead) + 1, 255} {
				if pad < 0 || pad > 255 {
					continue
				}
				b := raw(x.kind, x.flags, 3, string([]byte{byte(pad)})+x.ahead+behind)
				wantRead(t, b+"\xee\xee", 0)
				f, n, y := frame.Read(b, 0)
				if pad > room && (n != 0 || y != broken || !same(f, api.Frame{})) {
					t.Errorf("P6.2: Read(%x) = %s, %d, %v, want a fault of the padding", b, shown(f), n, y)
				}
				if pad <= room && (f.Pad != pad || f.Data != behind[pad:] || n != len(b) || y != (api.Fault{})) {
					t.Errorf("P6.2: Read(%x) = %s, %d, %v, want a padding of %d", b, shown(f), n, y, pad)
				}
			}
		}
	}
	wantFrame(t, raw(0, 8, 1, "\x00"), 0, api.Frame{Flags: 8, Stream: 1}, 10)
	wantFrame(t, raw(0, 8, 1, "\x02hi\xaa\xbb"), 0, api.Frame{Flags: 8, Stream: 1, Data: "hi", Pad: 2}, 14)
	wantFrame(t, raw(10, 8, 1, "\x02hi\xaa\xbb"), 0, api.Frame{Type: 10, Flags: 8, Stream: 1, Data: "\x02hi\xaa\xbb"}, 14)
	wantFrame(t, raw(9, 8, 1, "\xffhi"), 0, api.Frame{Type: 9, Stream: 1, Data: "\xffhi"}, 12)
}

// TestReadHighestBits: of a stream, a promised one, a last one, an increment.
func TestReadHighestBits(t *testing.T) {
	for kind := range 256 {
		f := fullFrame(kind, 0)
		b, _ := frame.Write(f)
		if streamsOf(kind) == "connection" {
			f.Stream = 0
		}
		bent := []byte(b)
		bent[5] |= 128
		wantFrame(t, string(bent), 0, f, len(b))
	}
	wantFrame(t, raw(5, 0, 1, "\x80\x00\x00\x02x"), 0, api.Frame{Type: 5, Stream: 1, Last: 2, Data: "x"}, 14)
	wantFrame(t, raw(5, 8, 1, "\x00\xff\xff\xff\xff"), 0, api.Frame{Type: 5, Flags: 8, Stream: 1, Last: 2147483647}, 14)
	wantFrame(t, raw(7, 0, 0x80000000, "\x80\x00\x00\x05\x80\x00\x00\x06"), 0, api.Frame{Type: 7, Last: 5, Code: 0x80000006}, 17)
	wantFrame(t, raw(8, 0, 0, "\xff\xff\xff\xff"), 0, api.Frame{Type: 8, Last: 2147483647}, 13)
	wantFrame(t, raw(8, 0, 1, "\x80\x00\x00\x00"), 0, api.Frame{Type: 8, Stream: 1}, 13)
	wantFrame(t, raw(3, 0, 1, "\x80\x00\x00\x00"), 0, api.Frame{Type: 3, Stream: 1, Code: 0x80000000}, 13)
	wantFrame(t, raw(2, 0, 1, "\x80\x00\x00\x01\x00"), 0, api.Frame{Type: 2, Stream: 1, Dep: 1, Excl: true, Weight: 1}, 14)
	wantFault(t, raw(2, 0, 0x80000005, ""), 0, 9, api.Fault{Code: 6, Stream: 5})
	wantFault(t, raw(0, 0, 0x80000000, ""), 0, 0, broken)
	wantFault(t, raw(4, 0, 0x80000001, ""), 0, 0, broken)
}

// TestReadOrder: two faults at once, the first rule's is told.
func TestReadOrder(t *testing.T) {
	for _, x := range []struct {
		b    string
		n    int
		want api.Fault
	}{
		{raw(0, 0, 0, strings.Repeat("x", 16385)), 0, size},         // too long, and the stream
		{raw(2, 0, 1, strings.Repeat("x", 16385)), 0, size},         // too long, and no length of a Priority
		{raw(0, 0, 0, strings.Repeat("x", 16385))[:9], 0, size},     // too long, and not there
		{raw(0, 0, 0, "x")[:9], 0, more},                            // not there, and the stream
		{raw(6, 0, 0, "1234567")[:15], 0, more},                     // not there, and the length
		{raw(2, 0, 5, "123")[:11], 0, more},                         // not there, and the length of a Priority
		{raw(0, 8, 5, "\x05x")[:10], 0, more},                       // not there, and the padding
		{raw(0, 8, 0, ""), 0, broken},                               // the stream, and the length
		{raw(1, 40, 0, "12345"), 0, broken},                         // the same of Headers
		{raw(2, 0, 0, "1234"), 0, broken},                           // of a Priority
		{raw(3, 0, 0, "12345"), 0, broken},                          // of a Reset
		{raw(4, 0, 1, "1234567"), 0, broken},                        // of a Settings
		{raw(4, 1, 1, "123456"), 0, broken},                         // of one with Ack
		{raw(5, 0, 0, "123"), 0, broken},                            // of a Promise
		{raw(6, 0, 1, "1234567"), 0, broken},                        // of a Ping
		{raw(7, 0, 1, "1234567"), 0, broken},                        // of a GoAway
		{raw(0, 8, 0, "\x01"), 0, broken},                           // the stream, and the padding
		{raw(1, 40, 1, "\xff1234"), 0, size},                        // the length, and the padding
		{raw(5, 8, 1, "\xff123"), 0, size},                          // the same of a Promise
		{raw(5, 8, 1, "\x011234"), 0, broken},                       // the padding alone
		{raw(1, 40, 1, "\x0112345"), 0, broken},                     // the same of Headers
		{raw(2, 0, 7, "123456"), 15, api.Fault{Code: 6, Stream: 7}}, // the one fault of a stream
	} {
		wantFault(t, x.b, 16384, x.n, x.want)
	}
}

// TestReadHeads: all types with all flags, on several streams, with several
// lengths, whole and cut off.
func TestReadHeads(t *testing.T) {
	payloads := []string{"", "\x00", "\x01", "\x00123", "\x001234", "\x0112345", "\x00123456", "\x021234567", "12345678", "\x0323456789012", "\x04\x80345678901234567890", "123456789012345678"}
	for kind := range 256 {
		for flags := range 256 {
			if kind > 12 && flags%51 != 0 {
				continue
			}
			for _, stream := range []uint32{0, 1, 0x7fffffff, 0x80000000, 0xfffffffe} {
				for _, payload := range payloads {
					wantRead(t, raw(kind, flags, stream, payload), 16384)
				}
			}
			b := raw(kind, flags, 1, "\x00234567890123456789")
			wantRead(t, b+"behind", 0)
			wantRead(t, b[:len(b)-1], 0)
		}
	}
}

// TestOwnBytesAlone: with more behind a frame the answer is the same, with fewer
// more are wanted, but where the length alone is too much.
func TestOwnBytesAlone(t *testing.T) {
	for kind := range 12 {
		for _, flags := range []int{0, 1, 8, 32, 40, 255} {
			for n := range 20 {
				b := raw(kind, flags, uint32(n%2), strings.Repeat("\x01", n))
				f, k, y := frame.Read(b, 0)
				for _, behind := range []string{"\x00", "\xff\xff\xff\xff\xff\xff\xff\xff\xff", b, strings.Repeat("z", 70000)} {
					if g, m, z := frame.Read(b+behind, 0); !same(f, g) || k != m || y != z {
						t.Errorf("P6.4: Read(%x) = %s, %d, %v, and with %d bytes behind %s, %d, %v", b, shown(f), k, y, len(behind), shown(g), m, z)
					}
				}
				for cut := range len(b) {
					wantFault(t, b[:cut], 0, 0, more)
				}
			}
		}
	}
	long := raw(0, 0, 1, strings.Repeat("x", 20000))
	for _, cut := range []int{9, 10, 16393, 20008, 20009} {
		wantFault(t, long[:cut], 16384, 0, size)
		wantFault(t, long[:cut]+"more", 19999, 0, size)
	}
	for cut := range 9 {
		wantFault(t, long[:cut], 16384, 0, more)
	}
}
