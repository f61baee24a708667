package block_test

import (
	"math/rand"
	"testing"

	"herald/api"
	"herald/block"
	"herald/frame"
)

// wantSplit holds Split against its model, and what it made against what it is for.
func wantSplit(t *testing.T, head api.Frame, text string, size int64) {
	t.Helper()
	frames, e := block.Split(head, text, size)
	want, wantError := modelSplit(head, text, size)
	if e != wantError || !sameFrames(frames, want) {
		t.Errorf("P12.1: Split(%s, %s, %d) = %s, %d, want %s, %d", shown(head), shownText(text), size, shownAll(frames), e, shownAll(want), wantError)
	}
	if e != api.OK {
		if frames != nil {
			t.Errorf("P12.1: Split(%s, %s, %d): %d frames beside the error %d", shown(head), shownText(text), size, len(frames), e)
		}
		return
	}
	wantBack(t, block.New(), head, text, frames)
	wantFewest(t, head, text, size, frames)
}

// wantBack: P12.2: an idle joiner says false of each but the last, and of this the head and the block.
func wantBack(t *testing.T, j *block.Joiner, head api.Frame, text string, frames []api.Frame) {
	t.Helper()
	for i, f := range frames {
		want := goesOn()
		if i == len(frames)-1 {
			want = isWhole(head, text)
			want.head.Flags = with(head.Flags, endHeaders)
		}
		if x := push(j, f); !same(x, want) {
			t.Errorf("P12.2: frame %d of Split(%s, %s): Push(%s) = %v, want %v", i, shown(head), shownText(text), shown(f), x, want)
		}
	}
}

// wantFewest: P12.2: every payload has at most size bytes, and fewer frames could not carry the block.
func wantFewest(t *testing.T, head api.Frame, text string, size int64, frames []api.Frame) {
	t.Helper()
	for i, f := range frames {
		payload := int64(len(f.Data))
		if i == 0 {
			payload += size - room(head, size)
		}
		if payload > size {
			t.Errorf("P12.2: Split(%s, %s, %d): frame %d has %d bytes of payload", shown(head), shownText(text), size, i, payload)
		}
	}
	fewer := int64(len(frames) - 1)
	if fewer > 0 && room(head, size)+(fewer-1)*size >= int64(len(text)) {
		t.Errorf("P12.2: Split(%s, %s, %d): %d frames, where %d can carry it", shown(head), shownText(text), size, len(frames), fewer)
	}
}

// heads are of both types, with all flags that count and with others.
func heads() []api.Frame {
	var list []api.Frame
	for _, kind := range []int{1, 5} {
		for _, flags := range []int{0, 1, 4, 5, 8, 9, 12, 13, 32, 33, 36, 40, 44, 45, 2, 16, 64, 128, 255, 247, 223, 215, 256, 1 << 40, -1, -9, -33, -41, least, greatest} {
			head := fullHead(kind, flags)
			list = append(list, head)
			if has(flags, padded) {
				list = append(list, padTo(1, head), padTo(254, head), padTo(255, head))
			}
		}
	}
	return list
}

// TestRoomEdges: P12.1, P12.2: blocks at which the number of frames changes, and beside them, for all head frames and sizes at the edges.
func TestRoomEdges(t *testing.T) {
	text := bytesOf(mostBlock)
	for _, head := range heads() {
		for _, size := range []int64{leastSize, 40000, mostSize} {
			for edge := room(head, size); edge <= mostBlock; edge += size {
				for _, n := range []int64{edge - 1, edge, edge + 1} {
					wantSplit(t, head, text[:min(n, mostBlock)], size)
				}
			}
			wantSplit(t, head, "", size)
			wantSplit(t, head, "b", size)
		}
		if t.Failed() {
			return
		}
	}
}

// TestPiecesByHand: P12.1: room and pieces as numbers that are written out.
func TestPiecesByHand(t *testing.T) {
	for _, c := range []struct {
		head   api.Frame
		length int
		size   int64
		pieces []int
	}{
		{headers(0, ""), 1, 16384, []int{1}},
		{headers(0, ""), 16383, 16384, []int{16383}},
		{headers(0, ""), 16384, 16384, []int{16384}},
		{headers(0, ""), 16385, 16385, []int{16385}},
		{headers(0, ""), 32768, 16384, []int{16384, 16384}},
		{headers(0, ""), 32769, 16384, []int{16384, 16384, 1}},
		{headers(8, ""), 16383, 16384, []int{16383}},
		{headers(8, ""), 16384, 16384, []int{16383, 1}},
		{padTo(1, headers(8, "")), 16383, 16384, []int{16382, 1}},
		{padTo(255, headers(8, "")), 16128, 16384, []int{16128}},
		{padTo(255, headers(8, "")), 16129, 16384, []int{16128, 1}},
		{headers(32, ""), 16379, 16384, []int{16379}},
		{headers(32, ""), 16380, 16384, []int{16379, 1}},
		{padTo(10, headers(40, "")), 16368, 16384, []int{16368}},
		{padTo(10, headers(40, "")), 16369, 16384, []int{16368, 1}},
		{promise(0, ""), 16380, 16384, []int{16380}},
		{promise(0, ""), 16381, 16384, []int{16380, 1}},
		{promise(32, ""), 16380, 16384, []int{16380}},
		{padTo(255, promise(8, "")), 16124, 16384, []int{16124}},
		{padTo(255, promise(40, "")), 16125, 16384, []int{16124, 1}},
		{promise(0, ""), 16380 + 16384, 16384, []int{16380, 16384}},
		{promise(0, ""), 16380 + 16384 + 1, 16384, []int{16380, 16384, 1}},
		{headers(0, ""), 131072, 65536, []int{65536, 65536}},
		{promise(0, ""), 131072, 65536, []int{65532, 65536, 4}},
		{headers(0, ""), 131072, 16384, []int{16384, 16384, 16384, 16384, 16384, 16384, 16384, 16384}},
		{headers(4, ""), 65537, 65536, []int{65536, 1}},
		{headers(5, ""), 3, 65536, []int{3}},
		{of(greatest, promise(4, "")), 65533, 65536, []int{65532, 1}},
	} {
		wantPieces(t, c.head, c.length, c.size, c.pieces...)
	}
}

// TestGroundsOfErrArg: P12.1: each ground by itself, at its edge and beyond it, ahead of ErrLong too.
func TestGroundsOfErrArg(t *testing.T) {
	fits := padTo(7, fullHead(1, 8))
	wrong := func(head api.Frame, size int64) {
		t.Helper()
		for _, n := range []int{0, 1, 20000, mostBlock, mostBlock + 1} {
			wantRefused(t, head, n, size, argError)
		}
	}
	for _, kind := range []int{0, 2, 3, 4, 6, 7, 8, 9, 10, 255, 256 + 1, 1<<32 + 5, -1, least, greatest} {
		head := fits
		head.Type = kind
		wrong(head, leastSize)
	}
	for _, data := range []string{"x", "\x00", bytesOf(20000), bytesOf(mostBlock + 1)} {
		head := fits
		head.Data = data
		wrong(head, leastSize)
	}
	for _, stream := range []int64{0, -1, -1 << 31, -1 << 32, least} {
		wrong(of(stream, fits), leastSize)
	}
	for _, pad := range []int{-1, 256, -255, 1 << 32, 1<<32 + 1, least, greatest} {
		wrong(padTo(pad, fits), leastSize)
		wrong(padTo(pad, fullHead(5, 8)), leastSize)
	}
	for _, pad := range []int{1, 255, 256, -1, least, greatest} {
		for _, flags := range []int{0, 1, 4, 32, 37, 247, -9} {
			wrong(padTo(pad, fullHead(1, flags)), leastSize)
			wrong(padTo(pad, fullHead(5, flags)), leastSize)
		}
	}
	for _, size := range []int64{leastSize - 1, mostSize + 1, 0, 1, -1, -leastSize, 1<<32 + leastSize, least, greatest} {
		wrong(fits, size)
	}
}

// TestAtTheLimits: P12.1: what stands just inside every limit is taken, and ErrLong is one byte above the block's.
func TestAtTheLimits(t *testing.T) {
	full := bytesOf(mostBlock + 1)
	for _, head := range []api.Frame{headers(0, ""), promise(0, ""), padTo(255, headers(8, "")), padTo(255, promise(8, "")), of(greatest, headers(0, "")), of(1<<31, promise(4, ""))} {
		for _, size := range []int64{leastSize, leastSize + 1, mostSize - 1, mostSize} {
			wantSplit(t, head, full[:mostBlock], size)
			wantSplit(t, head, full[:mostBlock-1], size)
			wantRefused(t, head, mostBlock+1, size, longError)
			wantRefused(t, head, 2*mostBlock, size, longError)
		}
	}
}

// TestPayloads: P12.2: what goes over the wire: each frame's bytes are nine and a payload of at most size, and read back they join to the block.
func TestPayloads(t *testing.T) {
	text := bytesOf(mostBlock)
	for _, kind := range []int{1, 5} {
		for _, flags := range []int{0, 8, 32, 40, 1} {
			head := api.Frame{Type: kind, Flags: flags, Stream: 9}
			if kind == 5 {
				head.Flags, head.Last = flags&padded, 10
			}
			if has(head.Flags, priority) {
				head.Dep, head.Weight = 3, 16
			}
			if has(head.Flags, padded) {
				head.Pad = 200
			}
			for _, size := range []int64{leastSize, 40000, mostSize} {
				for _, n := range []int64{0, room(head, size), room(head, size) + 1, room(head, size) + size, mostBlock} {
					wantPayloads(t, head, text[:min(n, mostBlock)], size)
				}
			}
		}
	}
}

func wantPayloads(t *testing.T, head api.Frame, text string, size int64) {
	t.Helper()
	frames, e := block.Split(head, text, size)
	if e != api.OK {
		t.Fatalf("P12.1: Split(%s, %s, %d): %d", shown(head), shownText(text), size, e)
	}
	var back []api.Frame
	for i, f := range frames {
		b, e := frame.Write(f)
		if e != api.OK || int64(len(b)) > 9+size {
			t.Errorf("P12.2: Split(%s, %s, %d): frame %d is written as %d bytes, %d", shown(head), shownText(text), size, i, len(b), e)
		}
		if i == 0 && len(frames) > 1 && int64(len(b)) != 9+size {
			t.Errorf("P12.2: Split(%s, %s, %d): the first frame has %d bytes, and the block goes on", shown(head), shownText(text), size, len(b))
		}
		f, _, _ = frame.Read(b, size)
		back = append(back, f)
	}
	wantBack(t, block.New(), head, text, back)
}

// TestRandomSplits: P12.1, P12.2: heads, blocks and sizes of all kinds, right and wrong.
func TestRandomSplits(t *testing.T) {
	r := rand.New(rand.NewSource(12))
	text, many := bytesOf(mostBlock+2), heads()
	for range 1500 {
		head := many[r.Intn(len(many))]
		size := leastSize + r.Int63n(mostSize-leastSize+1)
		n := r.Intn(mostBlock + 3)
		switch r.Intn(8) {
		case 0:
			n = int(room(head, size)) + r.Intn(3) - 1
		case 1:
			n = int(room(head, size)) + int(size) + r.Intn(3) - 1
		case 2:
			head.Pad = r.Intn(600) - 150
		case 3:
			size = []int64{leastSize - 1, leastSize, mostSize, mostSize + 1}[r.Intn(4)]
		case 4:
			head.Type = r.Intn(11)
		case 5:
			head.Stream = r.Int63n(4) - 1
		}
		wantSplit(t, head, text[:min(n, len(text))], size)
		if t.Failed() {
			return
		}
	}
}

// FuzzSplit: any head frame, block and size. Blocks are as long as their number says, since the fuzzer's own texts are short.
func FuzzSplit(f *testing.F) {
	f.Add(1, 1, int64(1), "", 0, uint32(16385), int64(16384))
	f.Add(5, 0, int64(1), "", 0, uint32(16384), int64(16384))
	f.Add(1, 40, int64(1), "", 255, uint32(20000), int64(16384))
	f.Add(1, 0, int64(1), "", 0, uint32(131073), int64(65536))
	f.Add(1, 0, int64(1), "x", 1, uint32(0), int64(16383))
	full := bytesOf(mostBlock + 2)
	f.Fuzz(func(t *testing.T, kind, flags int, stream int64, data string, pad int, n uint32, size int64) {
		head := fullHead(kind, flags)
		head.Stream, head.Data, head.Pad = stream, data, pad
		wantSplit(t, head, full[:n%uint32(len(full)+1)], size)
	})
}
