package script_test

import (
	"math"
	"math/rand"
	"strings"
	"testing"

	"herald/api"
	"herald/script"
)

func holdFrame(t *testing.T, f api.Frame) {
	t.Helper()
	got := script.Frame(f)
	if want := modelFrame(f); got != want {
		t.Fatalf("P26.1: Frame(%s) = %s, want %s", brief(f), shown(got), shown(want))
	}
	if strings.Contains(got, "\n") || strings.HasPrefix(got, " ") || strings.HasSuffix(got, " ") {
		t.Fatalf("P26.1: Frame(%s) = %s", brief(f), shown(got))
	}
}

// TestEachMember: alone, not zero, each in its own words.
func TestEachMember(t *testing.T) {
	for want, f := range map[string]api.Frame{
		"7 0 0": {Type: 7}, "0 7 0": {Flags: 7}, "0 0 7": {Stream: 7}, `0 0 0 data "7"`: {Data: "7"}, `0 0 0 data "\x00"`: {Data: "\x00"},
		"0 0 0 pad 7": {Pad: 7}, "0 0 0 dep 7": {Dep: 7}, "0 0 0 excl": {Excl: true}, "0 0 0 weight 7": {Weight: 7}, "0 0 0 code 7": {Code: 7}, "0 0 0 last 7": {Last: 7},
		"0 0 0 param 7 0": {Params: []api.Param{{ID: 7}}}, "0 0 0 param 0 7": {Params: []api.Param{{Value: 7}}}, "0 0 0 param 0 0": {Params: []api.Param{{}}}, "0 0 0": {Params: []api.Param{}},
		"-7 0 0": {Type: -7}, "0 -7 0": {Flags: -7}, "0 0 -7": {Stream: -7}, "0 0 0 pad -7": {Pad: -7}, "0 0 0 dep -7": {Dep: -7}, "0 0 0 weight -7": {Weight: -7}, "0 0 0 code -7": {Code: -7}, "0 0 0 last -7": {Last: -7}, "0 0 0 param -7 -8": {Params: []api.Param{{ID: -7, Value: -8}}},
		"0 0 0 param 1 2 param 1 2 param 0 0 param 3 4":                     {Params: []api.Param{{ID: 1, Value: 2}, {ID: 1, Value: 2}, {}, {ID: 3, Value: 4}}},
		`1 2 3 data "d" pad 4 dep 5 excl weight 6 code 7 last 8 param 9 10`: {Type: 1, Flags: 2, Stream: 3, Data: "d", Pad: 4, Dep: 5, Excl: true, Weight: 6, Code: 7, Last: 8, Params: []api.Param{{ID: 9, Value: 10}}},
	} {
		wantFrame(t, want, f)
	}
}

// TestTogether: any of the members zero, the others at each end of their range.
func TestTogether(t *testing.T) {
	for _, x := range []struct {
		i int
		n int64
	}{{1, 1}, {-1, -1}, {255, 1<<31 - 1}, {math.MaxInt, longest}, {math.MinInt, least}} {
		for set := range 1 << 11 {
			var f api.Frame
			for k, member := range []func(){
				func() { f.Type = x.i }, func() { f.Flags = x.i }, func() { f.Stream = x.n }, func() { f.Data = "d\"\n" }, func() { f.Pad = x.i }, func() { f.Dep = x.n },
				func() { f.Excl = true }, func() { f.Weight = x.i }, func() { f.Code = x.n }, func() { f.Last = x.n }, func() { f.Params = []api.Param{{ID: x.i, Value: x.n}, {}} },
			} {
				if set>>k&1 == 1 {
					member()
				}
			}
			holdFrame(t, f)
		}
	}
}

// TestRandomFrames: also those that no frame of layer 6 is, with long texts and many
// params.
func TestRandomFrames(t *testing.T) {
	r := rand.New(rand.NewSource(263))
	for range 3000 {
		f := api.Frame{
			Type: int(randomNumber(r)), Flags: int(randomNumber(r)), Stream: randomNumber(r), Data: randomText(r, 30), Pad: int(randomNumber(r)),
			Dep: randomNumber(r), Excl: r.Intn(2) == 0, Weight: int(randomNumber(r)), Code: randomNumber(r), Last: randomNumber(r),
		}
		for range r.Intn(4) {
			f.Params = append(f.Params, api.Param{ID: int(randomNumber(r)), Value: randomNumber(r)})
		}
		holdFrame(t, f)
	}
	holdFrame(t, api.Frame{Data: strings.Repeat("\"\x00a", 70000), Params: make([]api.Param, 2000)})
}
