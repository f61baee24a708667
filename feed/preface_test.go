package feed_test

import (
	"testing"

	"herald/api"
	"herald/feed"
)

func TestPrefaceIsApis(t *testing.T) {
	if api.Preface != preface || len(preface) != 24 {
		t.Errorf("the preface is %q, want %q", api.Preface, preface)
	}
}

// TestPrefaceCut: at each of its bytes nothing is told, and nothing is read.
func TestPrefaceCut(t *testing.T) {
	for n := range 24 {
		for _, behind := range []string{"", bytesA, bytesA + bytesB[:3]} {
			f := feed.New(true, 16384)
			f.Push(preface[:n])
			wantNext(t, "P7.4", f, none, n)
			wantNext(t, "P7.4", f, none, n)
			f.Push(preface[n:] + behind)
			wantWaiting(t, "P7.1", f, 24+len(behind))
			if behind == "" {
				wantNext(t, "P7.1", f, none, 0)
				f.Push(bytesA)
				wantNext(t, "P7.1", f, frameA(), 0)
				continue
			}
			wantNext(t, "P7.1", f, frameA(), len(behind)-len(bytesA))
		}
	}
}

// TestPrefaceByteByByte: it is read by the Next behind its last byte.
func TestPrefaceByteByByte(t *testing.T) {
	f := feed.New(true, 16384)
	for i := range 24 {
		wantNext(t, "P7.4", f, none, i)
		f.Push(preface[i : i+1])
		wantWaiting(t, "P7.4", f, i+1)
	}
	wantNext(t, "P7.4", f, none, 0)
}

// TestPrefaceOnce: a second one is bytes of frames.
func TestPrefaceOnce(t *testing.T) {
	for _, between := range []string{"", bytesA} {
		f := feed.New(true, 16384)
		f.Push(preface + between)
		want := none
		if between != "" {
			want = frameA()
		}
		wantNext(t, "P7.1", f, want, 0)
		f.Push(preface[:8])
		wantNext(t, "P7.1", f, none, 8)
		f.Push(preface[8:])
		wantNext(t, "P7.1", f, tooLong, 0)
		wantBroken(t, f, tooLong)
	}
}

// TestPrefaceAndFault: what is wrong behind the preface is told by the Next that
// reads it.
func TestPrefaceAndFault(t *testing.T) {
	f := feed.New(true, 16384)
	f.Push(preface + badFrame + "\xff")
	wantNext(t, "P7.1", f, badTold, 1)
	f = feed.New(true, 16384)
	f.Push(preface + bytesOf("00 00 00 03 00 00 00 00 01"))
	wantNext(t, "P7.1", f, tooLong, 0)
	wantBroken(t, f, tooLong)
}

// TestEachWrongByte: at each place all other bytes, with all that stands ahead of
// it right, and whatever stands behind it.
func TestEachWrongByte(t *testing.T) {
	for n := range 24 {
		for x := range 256 {
			if byte(x) == preface[n] {
				continue
			}
			for _, behind := range []string{"", preface[n+1:], preface[n+1:] + bytesA, preface} {
				f := feed.New(true, 65536)
				f.Push(preface[:n])
				wantNext(t, "P7.4", f, none, n)
				f.Push(string([]byte{byte(x)}) + behind)
				wantWaiting(t, "P7.4", f, n+1+len(behind))
				wantNext(t, "P7.4", f, wrong, 0)
				f.Push(preface)
				wantNext(t, "P7.4", f, wrong, 0)
			}
		}
	}
}

// TestTwoWrongBytes: in one chunk, with right ones between and behind.
func TestTwoWrongBytes(t *testing.T) {
	for n := range 23 {
		b := []byte(preface + bytesA)
		b[n]++
		b[23]--
		f := feed.New(true, 16384)
		f.Push(string(b))
		wantNext(t, "P7.4", f, wrong, 0)
		wantBroken(t, f, wrong)
	}
}

// TestNotAskedIsNotBroken: bytes that are wrong are waiting till Next is asked.
func TestNotAskedIsNotBroken(t *testing.T) {
	f := feed.New(true, 16384)
	f.Push("GET ")
	f.Push("/ HTTP/1.1\r\n")
	wantWaiting(t, "P7.1", f, 16)
	f.SetMost(65536)
	wantWaiting(t, "P7.1", f, 16)
	wantNext(t, "P7.1", f, wrong, 0)
	wantBroken(t, f, wrong)
}

// TestBrokenKeepsNothing: what is pushed into a broken feed takes no memory.
func TestBrokenKeepsNothing(t *testing.T) {
	f := feed.New(true, 16384)
	f.Push("x")
	wantNext(t, "P7.4", f, wrong, 0)
	used := testing.AllocsPerRun(100, func() {
		f.Push(preface)
		f.Next()
	})
	if used != 0 {
		t.Errorf("P7.4: a broken feed takes memory %v times for each Push and Next", used)
	}
}
