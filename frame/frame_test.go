package frame_test

import (
	"fmt"
	"math/rand"
	"reflect"
	"slices"
	"strings"
	"testing"
	"unsafe"

	"herald/api"
	"herald/frame"
)

var (
	more   = api.Fault{} // with no bytes: more are wanted
	size   = api.Fault{Code: 6}
	broken = api.Fault{Code: 1}
)

// same takes an empty list of Params for none.
func same(a, b api.Frame) bool {
	if len(a.Params) == 0 && len(b.Params) == 0 {
		a.Params, b.Params = nil, nil
	}
	return reflect.DeepEqual(a, b)
}

// shown keeps what a failed test tells readable.
func shown(f api.Frame) string {
	data := fmt.Sprintf("%.40q of %d bytes", f.Data, len(f.Data))
	params := fmt.Sprintf("%v of %d", f.Params[:min(len(f.Params), 4)], len(f.Params))
	return fmt.Sprintf("{Type %d Flags %d Stream %d Data %s Pad %d Dep %d Excl %v Weight %d Code %d Last %d Params %s}",
		f.Type, f.Flags, f.Stream, data, f.Pad, f.Dep, f.Excl, f.Weight, f.Code, f.Last, params)
}

func wantBytes(t *testing.T, f api.Frame, want string) {
	t.Helper()
	if b, e := frame.Write(f); b != want || e != api.OK {
		t.Errorf("P6.1: Write(%s) = %.100x (%d bytes), %d, want %.100x (%d bytes)", shown(f), b, len(b), e, want, len(want))
	}
}

func wantRefused(t *testing.T, f api.Frame, want api.Errno) {
	t.Helper()
	if b, e := frame.Write(f); b != "" || e != want {
		t.Errorf("P6.1: Write(%s) = %.100x (%d bytes), %d, want nothing and %d", shown(f), b, len(b), e, want)
	}
}

// wantWrite holds Write against the model.
func wantWrite(t *testing.T, f api.Frame) {
	t.Helper()
	if b, e := modelWrite(f); e == api.OK {
		wantBytes(t, f, b)
	} else {
		wantRefused(t, f, e)
	}
}

func wantFrame(t *testing.T, b string, most int64, want api.Frame, n int) {
	t.Helper()
	if f, k, y := frame.Read(b, most); !same(f, want) || k != n || y != (api.Fault{}) {
		t.Errorf("P6.2: Read(%.60x (%d bytes), %d) = %s, %d, %v, want %s, %d", b, len(b), most, shown(f), k, y, shown(want), n)
	}
}

func wantFault(t *testing.T, b string, most int64, n int, want api.Fault) {
	t.Helper()
	if f, k, y := frame.Read(b, most); !same(f, api.Frame{}) || k != n || y != want {
		t.Errorf("P6.2: Read(%.60x (%d bytes), %d) = %s, %d, %v, want no frame, %d, %v", b, len(b), most, shown(f), k, y, n, want)
	}
}

// wantRead holds Read against the model.
func wantRead(t *testing.T, b string, most int64) {
	t.Helper()
	if f, n, y := modelRead(b, most); n > 0 && y == (api.Fault{}) {
		wantFrame(t, b, most, f, n)
	} else {
		wantFault(t, b, most, n, y)
	}
}

// wantBack: there and back, with bytes behind.
func wantBack(t *testing.T, f api.Frame, most int64, behind string) {
	t.Helper()
	b, e := frame.Write(f)
	if e != api.OK {
		t.Errorf("P6.3: Write(%s) = %d", shown(f), e)
		return
	}
	if g, n, y := frame.Read(b+behind, most); !same(f, g) || n != len(b) || y != (api.Fault{}) {
		t.Errorf("P6.3: %s comes back as %s, %d, %v, want %d bytes", shown(f), shown(g), n, y, len(b))
	}
}

func TestExamples(t *testing.T) {
	for _, x := range []struct {
		f      api.Frame
		digits string
	}{
		{api.Frame{Flags: 1, Stream: 1, Data: "hi"}, "00 00 02 00 01 00 00 00 01 68 69"},
		{api.Frame{Flags: 8, Stream: 1, Data: "hi", Pad: 2}, "00 00 05 00 08 00 00 00 01 02 68 69 00 00"},
		{api.Frame{Type: 1, Flags: 36, Stream: 3, Dep: 1, Excl: true, Weight: 16, Data: "x"}, "00 00 06 01 24 00 00 00 03 80 00 00 01 0f 78"},
		{api.Frame{Type: 4, Params: []api.Param{{ID: 4, Value: 100}}}, "00 00 06 04 00 00 00 00 00 00 04 00 00 00 64"},
		{api.Frame{Type: 4, Flags: 1}, "00 00 00 04 01 00 00 00 00"},
	} {
		wantBytes(t, x.f, bytesOf(x.digits))
		wantFrame(t, bytesOf(x.digits), 16384, x.f, len(bytesOf(x.digits)))
		wantFrame(t, bytesOf(x.digits)+"whatever", 16384, x.f, len(bytesOf(x.digits)))
	}
	wantRefused(t, api.Frame{}, api.ErrFrame)
	wantRefused(t, api.Frame{Type: 8, Last: -1}, api.ErrFrame)
	wantRefused(t, api.Frame{Type: 6, Data: "1234567"}, api.ErrFrame)
	wantRefused(t, api.Frame{Stream: 1, Pad: 1}, api.ErrFrame)
	wantRefused(t, api.Frame{Stream: 1, Data: strings.Repeat("x", 65537)}, api.ErrLong)
	for _, x := range []struct {
		digits string
		most   int64
		n      int
		want   api.Fault
	}{
		{"ff ff ff ff ff ff ff ff", 16384, 0, more},
		{"00 40 01 00 00 00 00 00 01", 16384, 0, size},
		{"00 40 01 00 00 00 00 00 01", 65536, 0, more},
		{"00 00 04 02 00 00 00 00 05 61 62 63 64", 16384, 13, api.Fault{Code: 6, Stream: 5}},
		{"00 00 04 02 00 00 00 00 00 61 62 63 64", 16384, 0, broken},
		{"00 00 08 04 00 00 00 00 01 00 00 00 00 00 00 00 00", 16384, 0, broken},
		{"00 00 01 00 08 00 00 00 01 01", 16384, 0, broken},
		{"00 00 00 00 08 00 00 00 01", 16384, 0, size},
	} {
		wantFault(t, bytesOf(x.digits), x.most, x.n, x.want)
	}
	wantFrame(t, bytesOf("00 00 04 08 00 00 00 00 00 80 00 00 00"), 16384, api.Frame{Type: 8}, 13)
	wantFrame(t, bytesOf("00 00 01 00 08 00 00 00 01 00"), 16384, api.Frame{Flags: 8, Stream: 1}, 10)
	wantFrame(t, bytesOf("00 00 03 0a ff 80 00 00 07 61 62 63"), 16384, api.Frame{Type: 10, Flags: 255, Stream: 7, Data: "abc"}, 12)
}

// plainFrame is a right frame of a type with flags that it has.
func plainFrame(kind, flags int) api.Frame {
	f := api.Frame{Type: kind, Flags: flags}
	if streamsOf(kind) == "stream" {
		f.Stream = 1
	}
	parts := partsOf(kind, flags)
	if strings.Contains(parts, "p") {
		f.Weight = 1
	}
	if strings.Contains(parts, "e") {
		f.Data = "12345678"
	}
	return f
}

// fullFrame is one with something in all fields that it may have.
func fullFrame(kind, flags int) api.Frame {
	f := plainFrame(kind, flags)
	if streamsOf(kind) != "connection" {
		f.Stream = 0x01020304
	}
	for _, part := range partsOf(kind, flags) {
		switch part {
		case 'n':
			f.Pad = 3
		case 'p':
			f.Dep, f.Excl, f.Weight = 0x05060708, true, 201
		case 'l':
			f.Last = 0x090a0b0c
		case 'c':
			f.Code = 0xfd0e0f10
		case 's':
			f.Params = []api.Param{{ID: 0x1112, Value: 0xf3141516}, {}, {ID: 65535, Value: 1}}
		case 'd':
			f.Data = "data \x00\xff"
		}
	}
	return f
}

// knownKinds are all types with all flags that they have; of the unknown ones
// some.
func knownKinds() []api.Frame {
	var list []api.Frame
	for kind := range 256 {
		for flags := range 256 {
			some := kind < 10 || (kind == 10 || kind == 128 || kind == 255) && flags%17 == 0
			if some && knownFlags(kind, flags) == flags {
				list = append(list, api.Frame{Type: kind, Flags: flags})
			}
		}
	}
	return list
}

func TestThereAndBack(t *testing.T) {
	for _, k := range knownKinds() {
		for _, f := range []api.Frame{plainFrame(k.Type, k.Flags), fullFrame(k.Type, k.Flags)} {
			wantWrite(t, f)
			b, _ := frame.Write(f)
			for _, behind := range []string{"", "\x00", "\xff", strings.Repeat("\x00", 9), b, strings.Repeat("\xff", 100)} {
				for _, most := range []int64{0, 16384, 65536} {
					wantBack(t, f, most, behind)
				}
			}
			for n := range len(b) {
				if g, k, y := frame.Read(b[:n], 16384); !same(g, api.Frame{}) || k != 0 || y != (api.Fault{}) {
					t.Errorf("P6.4: Read of %d bytes of %x = %s, %d, %v, want more to be wanted", n, b, shown(g), k, y)
				}
			}
		}
	}
}

// TestLongThereAndBack: the length goes by most, and cut off the frame is wanted
// or too long, as its length is.
func TestLongThereAndBack(t *testing.T) {
	for _, n := range []int{0, 1, 255, 256, 16383, 16384, 16385, 65535, 65536} {
		f := api.Frame{Type: 9, Stream: 1, Data: strings.Repeat("x", n)}
		b, e := frame.Write(f)
		if e != api.OK {
			t.Fatalf("P6.1: Write(%s): %d", shown(f), e)
		}
		for _, most := range []int64{int64(n), int64(max(n, 16384)), 65536} {
			for _, behind := range []string{"", "y"} {
				wantBack(t, f, most, behind)
			}
			for _, cut := range []int{0, 3, 8, 9, n, n + 8} {
				wantFault(t, b[:min(cut, n+8)], most, 0, more)
			}
		}
		if n > 16384 {
			for _, cut := range []int{9, 10, n + 8, n + 9} {
				wantFault(t, b[:cut], int64(n-1), 0, size)
			}
			wantFault(t, b[:8], int64(n-1), 0, more)
		}
	}
}

// randomFrame is right or nearly so.
func randomFrame(r *rand.Rand) api.Frame {
	kind := r.Intn(12)
	f := fullFrame(kind, knownFlags(kind, r.Intn(256)))
	number := func() int64 { return []int64{0, 1, 1 << 31, highest31, highest32, r.Int63(), -1}[r.Intn(7)] }
	for range r.Intn(3) {
		switch r.Intn(11) {
		case 0:
			f.Type = r.Intn(14) - 1
		case 1:
			f.Flags ^= 1 << r.Intn(9)
		case 2:
			f.Stream = number()
		case 3:
			f.Data = strings.Repeat("d", r.Intn(10))
		case 4:
			f.Pad = r.Intn(260) - 2
		case 5:
			f.Dep = number()
		case 6:
			f.Excl = !f.Excl
		case 7:
			f.Weight = r.Intn(260) - 1
		case 8:
			f.Code = number()
		case 9:
			f.Last = number()
		case 10:
			f.Params = []api.Param{{ID: r.Intn(65540) - 2, Value: number()}}
		}
	}
	return f
}

func TestRandom(t *testing.T) {
	r := rand.New(rand.NewSource(6))
	for range 100000 {
		f := randomFrame(r)
		wantWrite(t, f)
		b, e := frame.Write(f)
		if e != api.OK {
			continue
		}
		bent := []byte(b)
		for range 1 + r.Intn(3) {
			bent[r.Intn(len(bent))] = byte(r.Intn(256))
		}
		wantRead(t, string(bent), 16384)
		bent[0], bent[1] = 0, 0
		wantRead(t, string(bent), 16384)
	}
}

// TestReadIsRight: what Read makes Write takes, and the bytes are the same but
// for what Read doesn't look at.
func TestReadIsRight(t *testing.T) {
	r := rand.New(rand.NewSource(7))
	for range 50000 {
		b := make([]byte, 9+r.Intn(20))
		r.Read(b)
		b[0], b[1], b[2], b[3] = 0, 0, byte(len(b)-9), byte(r.Intn(12))
		f, n, y := frame.Read(string(b), 16384)
		if n == 0 || y != (api.Fault{}) {
			continue
		}
		if !modelRight(f) {
			t.Errorf("P6.3: Read(%x) = %s, not a right frame", b, shown(f))
		}
		got, e := frame.Write(f)
		if want := withoutTheRest(b, f); e != api.OK || got != want {
			t.Errorf("P6.3: what is read of %x is written as %x, %d, want %x", b, got, e, want)
		}
	}
}

// withoutTheRest clears what Read doesn't look at.
func withoutTheRest(b []byte, f api.Frame) string {
	plain := slices.Clone(b)
	plain[4] = byte(f.Flags)
	plain[5] &= 127
	parts := partsOf(f.Type, f.Flags)
	if at := strings.Index(parts, "l"); at >= 0 {
		plain[9+at] &= 127
	}
	for i := range f.Pad {
		plain[len(plain)-1-i] = 0
	}
	return string(plain)
}

func sharesBytes(a, b string) bool {
	if a == "" || b == "" {
		return false
	}
	p, q := uintptr(unsafe.Pointer(unsafe.StringData(a))), uintptr(unsafe.Pointer(unsafe.StringData(b)))
	return p < q+uintptr(len(b)) && q < p+uintptr(len(a))
}

func TestNewMemory(t *testing.T) {
	for _, k := range knownKinds() {
		f := fullFrame(k.Type, k.Flags)
		f.Data = strings.Clone(f.Data)
		b, e := frame.Write(f)
		g, _, _ := frame.Read(b, 16384)
		if e != api.OK || sharesBytes(b, f.Data) || sharesBytes(g.Data, b) || sharesBytes(g.Data, f.Data) {
			t.Errorf("P6.5, R3: bytes are shared at %s", shown(f))
		}
	}
	long := api.Frame{Type: 9, Stream: 1, Data: strings.Repeat("x", 5000)}
	b, _ := frame.Write(long)
	if g, _, _ := frame.Read(b, 16384); sharesBytes(g.Data, b) {
		t.Error("P6.5, R3: Data shares the bytes that it was read from")
	}
}

// TestParamsStay: those handed in, with their spare room, stay as they are, and
// nothing is kept of them; those answered may be written over.
func TestParamsStay(t *testing.T) {
	room := []api.Param{{ID: 1, Value: 2}, {ID: 3, Value: 4}, {ID: 5, Value: 6}, {ID: 7, Value: 8}}
	before := slices.Clone(room)
	f := api.Frame{Type: 4, Params: room[1:3]}
	b, _ := frame.Write(f)
	wrong := f
	wrong.Stream = 1
	wantRefused(t, wrong, api.ErrFrame)
	acked := f
	acked.Flags = 1
	wantRefused(t, acked, api.ErrFrame)
	if !slices.Equal(room, before) {
		t.Errorf("P6.5: Write changed Params or their spare room: %v, want %v", room, before)
	}
	clear(room)
	first, n, _ := frame.Read(b, 0)
	second, m, _ := frame.Read(b, 0)
	want := api.Frame{Type: 4, Params: []api.Param{{ID: 3, Value: 4}, {ID: 5, Value: 6}}}
	if !same(first, want) || !same(second, want) || n != 21 || m != 21 {
		t.Fatalf("P6.5: %s, %d and %s, %d, want %s", shown(first), n, shown(second), m, shown(want))
	}
	all := first.Params[:cap(first.Params)]
	for i := range all {
		all[i] = api.Param{ID: -1, Value: -1}
	}
	if third, _, _ := frame.Read(b, 0); !same(second, want) || !same(third, want) {
		t.Errorf("P6.5: Params written over are seen in %s and %s", shown(second), shown(third))
	}
	if again, e := frame.Write(second); again != b || e != api.OK {
		t.Errorf("P6.5: Write(%s) = %x, %d, want %x", shown(second), again, e, b)
	}
}

// TestNothingKept: a call answers the same whatever was called ahead of it.
func TestNothingKept(t *testing.T) {
	wrong := bytesOf("00 00 04 02 00 00 00 00 05 61 62 63 64")
	for _, k := range knownKinds() {
		f := fullFrame(k.Type, k.Flags)
		b, _ := frame.Write(f)
		wantFault(t, wrong, 0, 13, api.Fault{Code: 6, Stream: 5})
		wantRefused(t, api.Frame{Type: -1}, api.ErrFrame)
		wantFault(t, b[:len(b)-1], 0, 0, more)
		wantBytes(t, f, b)
		wantFrame(t, b, 0, f, len(b))
	}
}

func FuzzRead(f *testing.F) {
	f.Add("\x00\x00\x06\x01\x24\x00\x00\x00\x03\x80\x00\x00\x01\x0fx", int64(16384))
	f.Add("\x00\x00\x05\x00\xff\x80\x00\x00\x01\x02hi\xaa\xbb", int64(0))
	f.Add("\x00\x00\x0c\x04\x00\x00\x00\x00\x00\x00\x04\x00\x00\x00\x64\x00\x02\x00\x00\x00\x00", int64(65536))
	f.Fuzz(func(t *testing.T, b string, most int64) { wantRead(t, b, most) })
}

func FuzzWrite(f *testing.F) {
	f.Add(1, 44, int64(3), "x", 2, int64(1), true, 16, int64(0), int64(0), 0, int64(0))
	f.Add(7, 0, int64(0), "x", 0, int64(0), false, 0, int64(2), int64(5), 0, int64(0))
	f.Add(4, 0, int64(0), "", 0, int64(0), false, 0, int64(0), int64(0), 4, int64(100))
	f.Fuzz(func(t *testing.T, kind, flags int, stream int64, data string, pad int, dep int64, excl bool, weight int, code, last int64, id int, value int64) {
		x := api.Frame{Type: kind, Flags: flags, Stream: stream, Data: data, Pad: pad, Dep: dep, Excl: excl, Weight: weight, Code: code, Last: last}
		if id != 0 || value != 0 {
			x.Params = []api.Param{{ID: id, Value: value}}
		}
		wantWrite(t, x)
		if _, e := frame.Write(x); e == api.OK {
			wantBack(t, x, 65536, data)
		}
	})
}
