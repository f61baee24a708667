package script

import (
	"strconv"
	"strings"

	"herald/api"
)

// Frame is a frame in one line.
func Frame(f api.Frame) string {
	words := []string{strconv.Itoa(f.Type), strconv.Itoa(f.Flags), strconv.FormatInt(f.Stream, 10)}
	if f.Data != "" {
		words = append(words, "data", Quote(f.Data))
	}
	words = append(words, named("pad", int64(f.Pad))...)
	words = append(words, named("dep", f.Dep)...)
	if f.Excl {
		words = append(words, "excl")
	}
	words = append(words, named("weight", int64(f.Weight))...)
	words = append(words, named("code", f.Code)...)
	words = append(words, named("last", f.Last)...)
	for _, p := range f.Params {
		words = append(words, "param", strconv.Itoa(p.ID), strconv.FormatInt(p.Value, 10))
	}
	return strings.Join(words, blank)
}

// named is the words of a number; of 0 there are none.
func named(name string, n int64) []string {
	if n == 0 {
		return nil
	}
	return []string{name, strconv.FormatInt(n, 10)}
}
